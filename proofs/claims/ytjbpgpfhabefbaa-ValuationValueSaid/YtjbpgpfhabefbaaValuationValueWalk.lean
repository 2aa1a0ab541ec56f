/-
  The walk of ValuationValue.
-/
import Derived.Test.YtjbpgpfhabefbaaV7
namespace Go.Proofs.Ytjbpgpfhabefbaa
open Go.RowKit
set_option linter.unusedVariables false

theorem valuationValue_walk (a0 : Int) (a1 : Int) (a2_0 a2_1 : Int) (w : World) (w0 : (Lit.int .i64 a0).wf = true) (w1 : (Lit.int .i64 a1).wf = true) (w2_0 : (Lit.int .i64 a2_0).wf = true) (w2_1 : (Lit.int .i64 a2_1).wf = true) :
    Calls Try.prog 3 #[.int .i64 a0, .int .i64 a1, .agg #[.int .i64 a2_0, .int .i64 a2_1]] w fun e w' => e = .returned (.bool true) ∧ Below w.heap.size w w' := by
  have i0 := wf64 w2_0
  have i1 := wf64 w2_1
  have ND := fun w => hide (value_any a0 a1 a2_0 a2_1 w i0 i1)
  have RN := fun w => hide (rvalue_any a0 a1 a2_0 a2_1 w i0 i1)
  have K := fun w => hide (known_any w)
  clear w0 w1 w2_0 w2_1 i0 i1
  generalize vV a0 a1 a2_0 a2_1 = V at *
  generalize vE a0 a1 a2_0 a2_1 = E at *
  go_enter Try.func3, Try.ntmps3
  go_wp2_with fail
  refine (of_any _ _ _).mono ?_
  rintro e w1 ⟨rfl, hb⟩
  have c0 := (hb.cell (p := ⟨w.heap.size, 0, none⟩) (by simp)).trans (show _ = some (Value.int .i64 a2_0) by simp [go_sem])
  have c1 := (hb.cell (p := ⟨w.heap.size, 1, none⟩) (by simp)).trans (show _ = some (Value.int .i64 a2_1) by simp [go_sem])
  have z1 : w.heap.size + 1 ≤ w1.heap.size := by have := hb.size; simp at this; omega
  have HB1 := hide (show Below w.heap.size w w1 from ((Below.refl w.heap.size w).alloc (Nat.le_refl _) _).trans (hb.mono (by simp)))
  clear hb
  go_wp2_with fail
  refine (ND _).out.mono ?_
  rintro e w2 ⟨rfl, hb⟩
  have c0 := (hb.cell (p := ⟨w.heap.size, 0, none⟩) (by simp; omega)).trans c0
  have c1 := (hb.cell (p := ⟨w.heap.size, 1, none⟩) (by simp; omega)).trans c1
  have HB2 := hide (HB1.out.trans (hb.mono HB1.out.size))
  clear hb
  go_wp2_with fail
  refine (RN _).out.mono ?_
  rintro e w3 ⟨rfl, hb⟩
  have HB3 := hide (HB2.out.trans (hb.mono HB2.out.size))
  clear hb
  go_wp2_with fail
  refine (K _).out.mono ?_
  rintro e w4 ⟨rfl, hb⟩
  have HB4 := hide (HB3.out.trans (hb.mono HB3.out.size))
  clear hb
  go_wp2_with fail
  go_ret
  exact ⟨rfl, HB4.out⟩
end Go.Proofs.Ytjbpgpfhabefbaa
