/-
  The walk of IdentLEICheckDigits.
-/
import Derived.Test.YtjcldaofgbcpaaaDoorId17
namespace Go.Proofs.YtjcldaofgbcpaaaDoor
open Go.RowKit
set_option linter.unusedVariables false

set_option maxHeartbeats 4000000 in
set_option maxRecDepth 20000 in
theorem identLEICheckDigits_walk (a0 : ByteArray) (w : World) (w0 : a0.size ≤ maxLen) (hL : laidMetH Tryd.prog laid w) :
    Calls Tryd.prog 5 #[.string a0] w fun e w' => e = .returned (.bool true) ∧ Below w.heap.size w w' := by
  have S := shp_of hL
  unfold maxLen at w0
  have hz := cut_le a0
  have B0 := hide (Below.refl w.heap.size w)
  have SS := hide S
  clear hL S
  go_enter Tryd.func5, Tryd.ntmps5
  go_wp2_with fail
  generalize a0.extract 0 (min (a0.size : Int) 100).toNat = C at *
  have ck := fun w S => hide (le_any C w S (by omega))
  have rk := fun w => hide (rle_any C w (by omega))
  by_cases hE : leE C = 0
  · skip
    have hV : leV C = dd (cd (bl C)) := if_pos hE
    obtain ⟨l1, l2⟩ := cd_bd (bl C)
    have hk := okI3_digits C (cd (bl C)) (by omega) (by omega)
    rw [decide_eq_true ⟨hE, rfl⟩] at hk
    have hcs := (leE_als hE).1
    have hdz : (dd (cd (bl C))).size = 2 := rfl
    have hzz : (C ++ dd (cd (bl C))).size ≤ 200 := by rw [ByteArray.size_append]; omega
    have ok := fun w S => hide (ok_any 3 _ w S hzz)
    rw [hk] at ok
    have A1 : ∀ W, (Op.stringOp .add C (dd (cd (bl C)))).run Tryd.prog W = .ok (.string (C ++ dd (cd (bl C)))) W := fun W => run_string_add_sum W _ _ (by rw [hcs, hdz]; decide)
    rw [hV, hE] at ck rk
    clear hV hE hk hcs hzz l1 l2 hz hdz
    generalize C ++ dd (cd (bl C)) = CC at *
    generalize dd (cd (bl C)) = CU at *
    refine (ck _ SS.out).out.mono ?_
    rintro e w1 ⟨rfl, hb⟩
    have B1 := hide (B0.out.trans (hb.mono B0.out.size))
    clear hb
    go_wp2_with fail
    refine (rk _).out.mono ?_
    rintro e w2 ⟨rfl, hb⟩
    have B2 := hide (B1.out.trans (hb.mono B1.out.size))
    clear hb
    go_wp2_with fail
    refine (known_any _ (SS.out.keep B2.out)).mono ?_
    rintro e w3 ⟨rfl, hb⟩
    have B3 := hide (B2.out.trans (hb.mono B2.out.size))
    clear hb
    go_wp2_with fail
    refine (ok _ (SS.out.keep B3.out)).out.mono ?_
    rintro e w5 ⟨rfl, hb⟩
    have B5 := hide (B3.out.trans (hb.mono B3.out.size))
    clear hb
    go_wp2_with fail
    go_ret
    exact ⟨rfl, B5.out⟩
  · skip
    have hE2 : (leE C == 0) = false := by simpa using hE
    generalize leV C = V at *
    generalize leE C = E at *
    refine (ck _ SS.out).out.mono ?_
    rintro e w1 ⟨rfl, hb⟩
    have B1 := hide (B0.out.trans (hb.mono B0.out.size))
    clear hb
    go_wp2_with fail
    refine (rk _).out.mono ?_
    rintro e w2 ⟨rfl, hb⟩
    have B2 := hide (B1.out.trans (hb.mono B1.out.size))
    clear hb
    go_wp2_with fail
    refine (known_any _ (SS.out.keep B2.out)).mono ?_
    rintro e w3 ⟨rfl, hb⟩
    have B3 := hide (B2.out.trans (hb.mono B2.out.size))
    clear hb
    go_wp2_with fail
    go_ret
    exact ⟨rfl, B3.out⟩
end Go.Proofs.YtjcldaofgbcpaaaDoor
