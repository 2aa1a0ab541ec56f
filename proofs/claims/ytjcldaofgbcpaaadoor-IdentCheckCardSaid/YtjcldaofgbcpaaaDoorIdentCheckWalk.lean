/-
  The walk of IdentCheck.
-/
import Derived.Test.YtjcldaofgbcpaaaDoorId15
namespace Go.Proofs.YtjcldaofgbcpaaaDoor
open Go.RowKit
set_option linter.unusedVariables false

theorem cut_le (s : ByteArray) : (s.extract 0 (min (s.size : Int) 100).toNat).size ≤ 100 := by rw [ByteArray.size_extract]; omega
theorem okI_yes {k : Int} {s : ByteArray} (h : (ckR k s).2 = 0) : okI k s = true := decide_eq_true h
theorem okI_no {k : Int} {s : ByteArray} (h : ¬ (ckR k s).2 = 0) : okI k s = false := decide_eq_false h

set_option maxHeartbeats 4000000 in
set_option maxRecDepth 20000 in
theorem identCheck_walk (a0 : Int) (a1 : ByteArray) (w : World) (w0 : (Lit.int .i64 a0).wf = true) (w1 : a1.size ≤ maxLen) (hL : laidMetH Tryd.prog laid w) :
    Calls Tryd.prog 3 #[.int .i64 a0, .string a1] w fun e w' => e = .returned (.bool true) ∧ Below w.heap.size w w' := by
  have S := shp_of hL
  unfold maxLen at w1
  have hz := cut_le a1
  have B0 := hide (Below.refl w.heap.size w)
  clear hL w0
  go_enter Tryd.func3, Tryd.ntmps3
  go_wp2_with fail
  generalize a1.extract 0 (min (a1.size : Int) 100).toNat = C at *
  have ck := fun w S => hide (ck_any a0 C w S (by omega))
  have rk := fun w => hide (rck_any a0 C w (by omega))
  have ok := fun w S => hide (ok_any a0 C w S (by omega))
  have SS := hide S
  clear S hz w1
  by_cases hE : (ckR a0 C).2 = 0
  · rw [okI_yes hE] at ok
    rw [hE] at ck rk
    clear hE
    generalize (ckR a0 C).1 = V at *
    refine (ck _ SS.out).out.mono ?_
    rintro e w1 ⟨rfl, hb⟩
    have B1 := hide (B0.out.trans (hb.mono B0.out.size))
    clear hb
    go_wp2_with fail
    refine (rk _).out.mono ?_
    rintro e w2 ⟨rfl, hb⟩
    have B2 := hide (B1.out.trans (hb.mono B1.out.size))
    clear hb
    go_wp2_with fail
    refine (known_any _ (SS.out.keep B2.out)).mono ?_
    rintro e w3 ⟨rfl, hb⟩
    have B3 := hide (B2.out.trans (hb.mono B2.out.size))
    clear hb
    go_wp2_with fail
    refine (ok _ (SS.out.keep B3.out)).out.mono ?_
    rintro e w4 ⟨rfl, hb⟩
    have B4 := hide (B3.out.trans (hb.mono B3.out.size))
    clear hb
    go_wp2_with fail
    go_ret
    exact ⟨rfl, B4.out⟩
  · rw [okI_no hE] at ok
    have hE2 : ((ckR a0 C).2 == 0) = false := by simpa using hE
    generalize (ckR a0 C).1 = V at *
    generalize (ckR a0 C).2 = E at *
    refine (ck _ SS.out).out.mono ?_
    rintro e w1 ⟨rfl, hb⟩
    have B1 := hide (B0.out.trans (hb.mono B0.out.size))
    clear hb
    go_wp2_with fail
    refine (rk _).out.mono ?_
    rintro e w2 ⟨rfl, hb⟩
    have B2 := hide (B1.out.trans (hb.mono B1.out.size))
    clear hb
    go_wp2_with fail
    refine (known_any _ (SS.out.keep B2.out)).mono ?_
    rintro e w3 ⟨rfl, hb⟩
    have B3 := hide (B2.out.trans (hb.mono B2.out.size))
    clear hb
    go_wp2_with fail
    refine (ok _ (SS.out.keep B3.out)).out.mono ?_
    rintro e w4 ⟨rfl, hb⟩
    have B4 := hide (B3.out.trans (hb.mono B3.out.size))
    clear hb
    go_wp2_with fail
    go_ret
    exact ⟨rfl, B4.out⟩
end Go.Proofs.YtjcldaofgbcpaaaDoor
