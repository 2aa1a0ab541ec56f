/-
  The walk of ValuationNeededLeast.
-/
import Derived.Test.YthgeeobbenjioabV7
import Derived.Test.YthgeeobbenjioabV8
namespace Go.Proofs.Ythgeeobbenjioab
open Go.RowKit
set_option linter.unusedVariables false

theorem valuationNeededLeast_walk (a0 : Int) (a1 : Int) (a2 : Int) (a3_0 a3_1 : Int) (w : World) (w0 : (Lit.int .i64 a0).wf = true) (w1 : (Lit.int .i64 a1).wf = true) (w2 : (Lit.int .i64 a2).wf = true) (w3_0 : (Lit.int .i64 a3_0).wf = true) (w3_1 : (Lit.int .i64 a3_1).wf = true) :
    Calls Try.prog 4 #[.int .i64 a0, .int .i64 a1, .int .i64 a2, .agg #[.int .i64 a3_0, .int .i64 a3_1]] w fun e w' => e = .returned (.bool true) ∧ Below w.heap.size w w' := by
  have i0 := wf64 w3_0
  have i1 := wf64 w3_1
  have ND := fun w => hide (need_any a0 a1 a2 a3_0 a3_1 w i0 i1)
  have K := fun w => hide (known_any w)
  have LS : nE a0 a1 a2 a3_0 a3_1 = 0 → Lst a0 a1 a2 a3_0 a3_1 := lst_of
  have VA := fun w => hide (value_any (nV a0 a1 a2 a3_0 a3_1) a1 a3_0 a3_1 w i0 i1)
  have VB := fun w => hide (value_any (nV a0 a1 a2 a3_0 a3_1 - a2) a1 a3_0 a3_1 w i0 i1)
  have F : nE a0 a1 a2 a3_0 a3_1 = 0 → _ := fun h => And.intro (LS h).mul (And.intro (LS h).err (And.intro (LS h).enough (And.intro (LS h).zero (And.intro (LS h).lessE (And.intro (LS h).lessV (And.intro (LS h).l1 (And.intro (LS h).l2 (And.intro (LS h).b1 (LS h).b2))))))))
  clear w0 w1 w2 w3_0 w3_1 i0 i1 LS
  generalize vE (nV a0 a1 a2 a3_0 a3_1 - a2) a1 a3_0 a3_1 = eb at *
  generalize vV (nV a0 a1 a2 a3_0 a3_1 - a2) a1 a3_0 a3_1 = vb at *
  generalize vE (nV a0 a1 a2 a3_0 a3_1) a1 a3_0 a3_1 = ea at *
  generalize vV (nV a0 a1 a2 a3_0 a3_1) a1 a3_0 a3_1 = va at *
  generalize nV a0 a1 a2 a3_0 a3_1 = V at *
  generalize nE a0 a1 a2 a3_0 a3_1 = E at *
  go_enter Try.func4, Try.ntmps4
  go_wp2_with fail
  refine (of_any _ _ _).mono ?_
  rintro e w1 ⟨rfl, hb⟩
  have c0 := (hb.cell (p := ⟨w.heap.size, 0, none⟩) (by simp)).trans (show _ = some (Value.int .i64 a3_0) by simp [go_sem])
  have c1 := (hb.cell (p := ⟨w.heap.size, 1, none⟩) (by simp)).trans (show _ = some (Value.int .i64 a3_1) by simp [go_sem])
  have z1 : w.heap.size + 1 ≤ w1.heap.size := by have := hb.size; simp at this; omega
  have HB1 := hide (show Below w.heap.size w w1 from ((Below.refl w.heap.size w).alloc (Nat.le_refl _) _).trans (hb.mono (by simp)))
  clear hb
  go_wp2_with fail
  refine (ND _).out.mono ?_
  rintro e w2 ⟨rfl, hb⟩
  have c0 := (hb.cell (p := ⟨w.heap.size, 0, none⟩) (by simp; omega)).trans c0
  have c1 := (hb.cell (p := ⟨w.heap.size, 1, none⟩) (by simp; omega)).trans c1
  have z2 : w.heap.size + 1 ≤ w2.heap.size := by have := hb.size; omega
  have HB2 := hide (HB1.out.trans (hb.mono HB1.out.size))
  clear hb
  by_cases hE : E = 0
  · obtain ⟨f1, f2, f3, f4, f5, f6, f7, f8, f9, f10⟩ := F hE
    clear F
    subst hE
    go_wp2_with fail
    refine (of_any _ _ _).mono ?_
    rintro e w3 ⟨rfl, hb⟩
    have c0 := (hb.cell (p := ⟨w.heap.size, 0, none⟩) (by simp; omega)).trans c0
    have c1 := (hb.cell (p := ⟨w.heap.size, 1, none⟩) (by simp; omega)).trans c1
    have z3 : w.heap.size + 1 ≤ w3.heap.size := by have := hb.size; omega
    have HB3 := hide (HB2.out.trans (hb.mono HB2.out.size))
    clear hb
    go_wp2_with fail
    refine (VA _).out.mono ?_
    rintro e w4 ⟨rfl, hb⟩
    have c0 := (hb.cell (p := ⟨w.heap.size, 0, none⟩) (by simp; omega)).trans c0
    have c1 := (hb.cell (p := ⟨w.heap.size, 1, none⟩) (by simp; omega)).trans c1
    have z4 : w.heap.size + 1 ≤ w4.heap.size := by have := hb.size; omega
    have HB4 := hide (HB3.out.trans (hb.mono HB3.out.size))
    clear hb
    have g1 : (IntKind.i64.wrap (V.tmod a2)) = 0 := by rw [f1]; rfl
    have g2 : ¬ a2 = 0 := by omega
    have g2' : (a2 == 0) = false := by simp; omega
    have g3 : ea = 0 → ¬ va < a0 := fun h => by have := f3 h; omega
    have g4 : ¬ ea = 0 → ea = 12 := fun h => by omega
    have g0 : V % a2 = 0 := by rw [← Int.tmod_eq_emod_of_nonneg f9]; exact f1
    by_cases hV : V = 0
    · have g5 := f4 hV
      subst g5
      clear VB f1 f3 f5 f6 f4
      rcases f2 with rfl | rfl
      · have g7 := g3 rfl
        go_wp2_with fail
        refine (K _).out.mono ?_
        rintro e w5 ⟨rfl, hb⟩
        have HB5 := hide (HB4.out.trans (hb.mono HB4.out.size))
        clear hb
        go_wp2_with fail
        go_ret
        exact ⟨rfl, HB5.out⟩
      · go_wp2_with fail
        refine (K _).out.mono ?_
        rintro e w5 ⟨rfl, hb⟩
        have HB5 := hide (HB4.out.trans (hb.mono HB4.out.size))
        clear hb
        go_wp2_with fail
        go_ret
        exact ⟨rfl, HB5.out⟩
    · have e0 := f5 hV
      subst e0
      have g5 := f6 hV
      have g6 : wrap64 (V - a2) = V - a2 := wrap_sm (by omega) (by omega)
      clear f1 f3 f5 f6 f4
      rcases f2 with rfl | rfl
      · have g7 := g3 rfl
        go_wp2_with fail
        refine (of_any _ _ _).mono ?_
        rintro e w5 ⟨rfl, hb⟩
        have HB5 := hide (HB4.out.trans (hb.mono HB4.out.size))
        clear hb
        go_wp2_with fail
        refine (VB _).out.mono ?_
        rintro e w6 ⟨rfl, hb⟩
        have HB6 := hide (HB5.out.trans (hb.mono HB5.out.size))
        clear hb
        go_wp2_with fail
        refine (K _).out.mono ?_
        rintro e w7 ⟨rfl, hb⟩
        have HB7 := hide (HB6.out.trans (hb.mono HB6.out.size))
        clear hb
        go_wp2_with fail
        go_ret
        exact ⟨rfl, HB7.out⟩
      · go_wp2_with fail
        refine (of_any _ _ _).mono ?_
        rintro e w5 ⟨rfl, hb⟩
        have HB5 := hide (HB4.out.trans (hb.mono HB4.out.size))
        clear hb
        go_wp2_with fail
        refine (VB _).out.mono ?_
        rintro e w6 ⟨rfl, hb⟩
        have HB6 := hide (HB5.out.trans (hb.mono HB5.out.size))
        clear hb
        go_wp2_with fail
        refine (K _).out.mono ?_
        rintro e w7 ⟨rfl, hb⟩
        have HB7 := hide (HB6.out.trans (hb.mono HB6.out.size))
        clear hb
        go_wp2_with fail
        go_ret
        exact ⟨rfl, HB7.out⟩
  · go_wp2_with fail
    refine (K _).out.mono ?_
    rintro e w3 ⟨rfl, hb⟩
    have HB3 := hide (HB2.out.trans (hb.mono HB2.out.size))
    clear hb
    go_wp2_with fail
    go_ret
    exact ⟨rfl, HB3.out⟩
end Go.Proofs.Ythgeeobbenjioab
