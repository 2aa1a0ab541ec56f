/-
  The walk of IdentISINCheckDigit.
-/
import Derived.Test.YtjcldaofgbcpaaaDoorId17
namespace Go.Proofs.YtjcldaofgbcpaaaDoor
open Go.RowKit
set_option linter.unusedVariables false

set_option maxHeartbeats 4000000 in
set_option maxRecDepth 20000 in
theorem identISINCheckDigit_walk (a0 : ByteArray) (w : World) (w0 : a0.size ≤ maxLen) (hL : laidMetH Tryd.prog laid w) :
    Calls Tryd.prog 4 #[.string a0] w fun e w' => e = .returned (.bool true) ∧ Below w.heap.size w w' := by
  have S := shp_of hL
  unfold maxLen at w0
  have hz := cut_le a0
  have B0 := hide (Below.refl w.heap.size w)
  have SS := hide S
  clear hL S
  go_enter Tryd.func4, Tryd.ntmps4
  go_wp2_with fail
  generalize a0.extract 0 (min (a0.size : Int) 100).toNat = C at *
  have ck := fun w S => hide (is_any C w S (by omega))
  have rk := fun w => hide (ris_any C w (by omega))
  by_cases hE : isE C = 0
  · skip
    have hV : isV C = 48 + luhn (bl C) := if_pos hE
    obtain ⟨l1, l2⟩ := luhn_bd (bl C)
    have hk := okI0_digit C (luhn (bl C)) l1 l2
    rw [decide_eq_true ⟨hE, rfl⟩] at hk
    have hcs := (isE_als hE).1
    have hzz : (C ++ (⟨#[UInt8.ofNat (48 + luhn (bl C)).toNat]⟩ : ByteArray)).size ≤ 200 := by rw [ByteArray.size_append]; show C.size + 1 ≤ 200; omega
    have ok := fun w S => hide (ok_any 0 _ w S hzz)
    rw [hk] at ok
    have A1 : ∀ W, (Op.stringOp .add C ⟨#[UInt8.ofNat (48 + luhn (bl C)).toNat]⟩).run Tryd.prog W = .ok (.string (C ++ ⟨#[UInt8.ofNat (48 + luhn (bl C)).toNat]⟩)) W := fun W => run_string_add_sum W _ _ (by rw [hcs]; show 11 + 1 ≤ _; decide)
    rw [hV, hE] at ck rk
    clear hV hE hk hcs hzz l1 l2 hz
    generalize 48 + luhn (bl C) = U at *
    have hcv := fun W => conv1 W U
    generalize C ++ (⟨#[UInt8.ofNat U.toNat]⟩ : ByteArray) = CC at *
    generalize (⟨#[UInt8.ofNat U.toNat]⟩ : ByteArray) = CU at *
    refine (ck _ SS.out).out.mono ?_
    rintro e w1 ⟨rfl, hb⟩
    have B1 := hide (B0.out.trans (hb.mono B0.out.size))
    clear hb
    go_wp2_with fail
    refine (rk _).out.mono ?_
    rintro e w2 ⟨rfl, hb⟩
    have B2 := hide (B1.out.trans (hb.mono B1.out.size))
    clear hb
    go_wp2_with fail
    refine (known_any _ (SS.out.keep B2.out)).mono ?_
    rintro e w3 ⟨rfl, hb⟩
    have B3 := hide (B2.out.trans (hb.mono B2.out.size))
    clear hb
    have B4 := hide (B3.out.alloc B3.out.size (.cells #[.int .u8 U] 5))
    have hcv3 := hcv w3
    clear hcv
    go_wp2_with fail
    refine (ok _ (SS.out.keep B4.out)).out.mono ?_
    rintro e w5 ⟨rfl, hb⟩
    have B5 := hide (B4.out.trans (hb.mono B4.out.size))
    clear hb
    go_wp2_with fail
    go_ret
    exact ⟨rfl, B5.out⟩
  · skip
    have hE2 : (isE C == 0) = false := by simpa using hE
    generalize isV C = V at *
    generalize isE C = E at *
    refine (ck _ SS.out).out.mono ?_
    rintro e w1 ⟨rfl, hb⟩
    have B1 := hide (B0.out.trans (hb.mono B0.out.size))
    clear hb
    go_wp2_with fail
    refine (rk _).out.mono ?_
    rintro e w2 ⟨rfl, hb⟩
    have B2 := hide (B1.out.trans (hb.mono B1.out.size))
    clear hb
    go_wp2_with fail
    refine (known_any _ (SS.out.keep B2.out)).mono ?_
    rintro e w3 ⟨rfl, hb⟩
    have B3 := hide (B2.out.trans (hb.mono B2.out.size))
    clear hb
    go_wp2_with fail
    go_ret
    exact ⟨rfl, B3.out⟩
end Go.Proofs.YtjcldaofgbcpaaaDoor
