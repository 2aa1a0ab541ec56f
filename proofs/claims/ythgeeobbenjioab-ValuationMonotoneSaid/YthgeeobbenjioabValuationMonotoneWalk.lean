/-
  The walk of ValuationMonotone.
-/
import Derived.Test.YthgeeobbenjioabV9
namespace Go.Proofs.Ythgeeobbenjioab
open Go.RowKit
set_option linter.unusedVariables false

set_option maxRecDepth 8000 in
set_option maxHeartbeats 4000000 in
theorem valuationMonotone_walk (a0 : Int) (a1 : Int) (a2 : Int) (a3 : Int) (a4_0 a4_1 : Int) (a5_0 a5_1 : Int) (w : World) (w0 : (Lit.int .i64 a0).wf = true) (w1 : (Lit.int .i64 a1).wf = true) (w2 : (Lit.int .i64 a2).wf = true) (w3 : (Lit.int .i64 a3).wf = true) (w4_0 : (Lit.int .i64 a4_0).wf = true) (w4_1 : (Lit.int .i64 a4_1).wf = true) (w5_0 : (Lit.int .i64 a5_0).wf = true) (w5_1 : (Lit.int .i64 a5_1).wf = true) :
    Calls Try.prog 5 #[.int .i64 a0, .int .i64 a1, .int .i64 a2, .int .i64 a3, .agg #[.int .i64 a4_0, .int .i64 a4_1], .agg #[.int .i64 a5_0, .int .i64 a5_1]] w fun e w' => e = .returned (.bool true) ∧ Below w.heap.size w w' := by
  have i0 := wf64 w4_0
  have i1 := wf64 w4_1
  have i2 := wf64 w5_0
  have i3 := wf64 w5_1
  have K := fun w => hide (known_any w)
  have V1 := fun w => hide (value_any a0 a2 a4_0 a4_1 w i0 i1)
  have V2 := fun w => hide (value_any a1 a2 a4_0 a4_1 w i0 i1)
  have V3 := fun w => hide (value_any a0 a3 a4_0 a4_1 w i0 i1)
  have V4 := fun w => hide (value_any a0 a2 a5_0 a5_1 w i2 i3)
  have V5 := fun w => hide (value_any (a0 + a1) a2 a4_0 a4_1 w i0 i1)
  have RC := fun w => hide (rcompare_any a4_0 a4_1 a5_0 a5_1 w i0 i1 i2 i3)
  have F : vE a0 a2 a4_0 a4_1 = 0 → _ := fun h => (fun (m : Mon a0 a1 a2 a3 a4_0 a4_1 a5_0 a5_1) => And.intro m.qq (And.intro m.pp (And.intro m.hh (And.intro m.sum (And.intro m.b1 (And.intro m.b2 (And.intro m.b3 (And.intro m.b4 m.b5)))))))) (mon_of h)
  clear w0 w1 w2 w3 w4_0 w4_1 w5_0 w5_1 i0 i1 i2 i3
  generalize cpV a4_0 a4_1 a5_0 a5_1 = cp at *
  generalize vE (a0 + a1) a2 a4_0 a4_1 = e5 at *
  generalize vV (a0 + a1) a2 a4_0 a4_1 = v5 at *
  generalize vE a0 a2 a5_0 a5_1 = e4 at *
  generalize vV a0 a2 a5_0 a5_1 = v4 at *
  generalize vE a0 a3 a4_0 a4_1 = e3 at *
  generalize vV a0 a3 a4_0 a4_1 = v3 at *
  generalize vE a1 a2 a4_0 a4_1 = e2 at *
  generalize vV a1 a2 a4_0 a4_1 = v2 at *
  generalize vE a0 a2 a4_0 a4_1 = e1 at *
  generalize vV a0 a2 a4_0 a4_1 = v1 at *
  have HF := hide F
  clear F
  go_enter Try.func5, Try.ntmps5
  go_wp2_with fail
  refine (of_any _ _ _).mono ?_
  rintro e w1 ⟨rfl, hb⟩
  have c0 := (hb.cell (p := ⟨w.heap.size, 0, none⟩) (by simp; omega)).trans (show _ = some (Value.int .i64 a4_0) by simp [go_sem])
  have c1 := (hb.cell (p := ⟨w.heap.size, 1, none⟩) (by simp; omega)).trans (show _ = some (Value.int .i64 a4_1) by simp [go_sem])
  have c2 := (hb.cell (p := ⟨w.heap.size + 1, 0, none⟩) (by simp)).trans (show _ = some (Value.int .i64 a5_0) by simp [go_sem])
  have c3 := (hb.cell (p := ⟨w.heap.size + 1, 1, none⟩) (by simp)).trans (show _ = some (Value.int .i64 a5_1) by simp [go_sem])
  have z1 : w.heap.size + 2 ≤ w1.heap.size := by have := hb.size; simp at this; omega
  have HB1 := hide (show Below w.heap.size w w1 from (((Below.refl w.heap.size w).alloc (Nat.le_refl _) _).alloc (by simp) _).trans (hb.mono (by simp; omega)))
  clear hb
  go_wp2_with fail
  refine ((V1 _).out).mono ?_
  rintro e w2 ⟨rfl, hb⟩
  have c0 := (hb.cell (p := ⟨w.heap.size, 0, none⟩) (by simp; omega)).trans c0
  have c1 := (hb.cell (p := ⟨w.heap.size, 1, none⟩) (by simp; omega)).trans c1
  have c2 := (hb.cell (p := ⟨w.heap.size + 1, 0, none⟩) (by simp; omega)).trans c2
  have c3 := (hb.cell (p := ⟨w.heap.size + 1, 1, none⟩) (by simp; omega)).trans c3
  have z2 : w.heap.size + 2 ≤ w2.heap.size := by have := hb.size; omega
  have HB2 := hide (HB1.out.trans (hb.mono HB1.out.size))
  clear hb
  by_cases hE : e1 = 0
  · obtain ⟨f1, f2, f3, f4, b1, b2, b3, b4, b5⟩ := HF.out hE
    have H1 := hide f1
    have H2 := hide f2
    have H3 := hide f3
    have H4 := hide f4
    have H5 := hide b5
    clear f1 f2 f3 f4 b5 HF
    subst hE
    go_wp2_with fail
    refine (of_any _ _ _).mono ?_
    rintro e w3 ⟨rfl, hb⟩
    have c0 := (hb.cell (p := ⟨w.heap.size, 0, none⟩) (by simp; omega)).trans c0
    have c1 := (hb.cell (p := ⟨w.heap.size, 1, none⟩) (by simp; omega)).trans c1
    have c2 := (hb.cell (p := ⟨w.heap.size + 1, 0, none⟩) (by simp; omega)).trans c2
    have c3 := (hb.cell (p := ⟨w.heap.size + 1, 1, none⟩) (by simp; omega)).trans c3
    have z3 : w.heap.size + 2 ≤ w3.heap.size := by have := hb.size; omega
    have HB3 := hide (HB2.out.trans (hb.mono HB2.out.size))
    clear hb
    go_wp2_with fail
    refine ((V2 _).out).mono ?_
    rintro e w4 ⟨rfl, hb⟩
    have c0 := (hb.cell (p := ⟨w.heap.size, 0, none⟩) (by simp; omega)).trans c0
    have c1 := (hb.cell (p := ⟨w.heap.size, 1, none⟩) (by simp; omega)).trans c1
    have c2 := (hb.cell (p := ⟨w.heap.size + 1, 0, none⟩) (by simp; omega)).trans c2
    have c3 := (hb.cell (p := ⟨w.heap.size + 1, 1, none⟩) (by simp; omega)).trans c3
    have z4 : w.heap.size + 2 ≤ w4.heap.size := by have := hb.size; omega
    have HB4 := hide (HB3.out.trans (hb.mono HB3.out.size))
    clear hb
    go_wp2_with fail
    refine (of_any _ _ _).mono ?_
    rintro e w5 ⟨rfl, hb⟩
    have c0 := (hb.cell (p := ⟨w.heap.size, 0, none⟩) (by simp; omega)).trans c0
    have c1 := (hb.cell (p := ⟨w.heap.size, 1, none⟩) (by simp; omega)).trans c1
    have c2 := (hb.cell (p := ⟨w.heap.size + 1, 0, none⟩) (by simp; omega)).trans c2
    have c3 := (hb.cell (p := ⟨w.heap.size + 1, 1, none⟩) (by simp; omega)).trans c3
    have z5 : w.heap.size + 2 ≤ w5.heap.size := by have := hb.size; omega
    have HB5 := hide (HB4.out.trans (hb.mono HB4.out.size))
    clear hb
    go_wp2_with fail
    refine ((V3 _).out).mono ?_
    rintro e w6 ⟨rfl, hb⟩
    have c0 := (hb.cell (p := ⟨w.heap.size, 0, none⟩) (by simp; omega)).trans c0
    have c1 := (hb.cell (p := ⟨w.heap.size, 1, none⟩) (by simp; omega)).trans c1
    have c2 := (hb.cell (p := ⟨w.heap.size + 1, 0, none⟩) (by simp; omega)).trans c2
    have c3 := (hb.cell (p := ⟨w.heap.size + 1, 1, none⟩) (by simp; omega)).trans c3
    have z6 : w.heap.size + 2 ≤ w6.heap.size := by have := hb.size; omega
    have HB6 := hide (HB5.out.trans (hb.mono HB5.out.size))
    clear hb
    go_wp2_with fail
    refine (of_any _ _ _).mono ?_
    rintro e w7 ⟨rfl, hb⟩
    have c0 := (hb.cell (p := ⟨w.heap.size, 0, none⟩) (by simp; omega)).trans c0
    have c1 := (hb.cell (p := ⟨w.heap.size, 1, none⟩) (by simp; omega)).trans c1
    have c2 := (hb.cell (p := ⟨w.heap.size + 1, 0, none⟩) (by simp; omega)).trans c2
    have c3 := (hb.cell (p := ⟨w.heap.size + 1, 1, none⟩) (by simp; omega)).trans c3
    have z7 : w.heap.size + 2 ≤ w7.heap.size := by have := hb.size; omega
    have HB7 := hide (HB6.out.trans (hb.mono HB6.out.size))
    clear hb
    go_wp2_with fail
    refine ((V4 _).out).mono ?_
    rintro e w8 ⟨rfl, hb⟩
    have c0 := (hb.cell (p := ⟨w.heap.size, 0, none⟩) (by simp; omega)).trans c0
    have c1 := (hb.cell (p := ⟨w.heap.size, 1, none⟩) (by simp; omega)).trans c1
    have c2 := (hb.cell (p := ⟨w.heap.size + 1, 0, none⟩) (by simp; omega)).trans c2
    have c3 := (hb.cell (p := ⟨w.heap.size + 1, 1, none⟩) (by simp; omega)).trans c3
    have z8 : w.heap.size + 2 ≤ w8.heap.size := by have := hb.size; omega
    have HB8 := hide (HB7.out.trans (hb.mono HB7.out.size))
    clear hb
    go_upto_region 7 with fail
    go_cut [80] (fun c wx => c = .bool false ∧ w8 = wx)
    case first =>
      by_cases g : e2 = 0
      · have ge := beq_iff_eq.2 g
        clear g
        go_wp2_with fail
        all_goals
          go_meet
          case rel => exact ⟨congrArg Value.bool (by have f := H1.out; have g := beq_iff_eq.1 ge; clear ge; simp <;> omega), rfl⟩
      · have ge : (e2 == 0) = false := by simpa using g
        go_wp2_with fail
        all_goals
          go_meet
          case rel => exact ⟨congrArg Value.bool (by have f := H1.out; clear ge; simp <;> omega), rfl⟩
    case rest =>
    obtain ⟨rfl, rfl⟩ := hcut
    go_upto_region 9 with fail
    go_cut [102] (fun c wx => c = .bool false ∧ w8 = wx)
    case first =>
      by_cases g : e3 = 0
      · have ge := beq_iff_eq.2 g
        clear g
        go_wp2_with fail
        all_goals
          go_meet
          case rel => exact ⟨congrArg Value.bool (by have f := H2.out; have g := beq_iff_eq.1 ge; clear ge; simp <;> omega), rfl⟩
      · have ge : (e3 == 0) = false := by simpa using g
        go_wp2_with fail
        all_goals
          go_meet
          case rel => exact ⟨congrArg Value.bool (by have f := H2.out; clear ge; simp <;> omega), rfl⟩
    case rest =>
    obtain ⟨rfl, rfl⟩ := hcut
    go_wp2_with fail
    refine ((RC _).out).mono ?_
    rintro e w9 ⟨rfl, hb⟩
    have c0 := (hb.cell (p := ⟨w.heap.size, 0, none⟩) (by simp; omega)).trans c0
    have c1 := (hb.cell (p := ⟨w.heap.size, 1, none⟩) (by simp; omega)).trans c1
    have c2 := (hb.cell (p := ⟨w.heap.size + 1, 0, none⟩) (by simp; omega)).trans c2
    have c3 := (hb.cell (p := ⟨w.heap.size + 1, 1, none⟩) (by simp; omega)).trans c3
    have z9 : w.heap.size + 2 ≤ w9.heap.size := by have := hb.size; omega
    have HB9 := hide (HB8.out.trans (hb.mono HB8.out.size))
    clear hb
    go_upto_region 12 with fail
    go_cut [125] (fun c wx => c = .bool false ∧ w9 = wx)
    case first =>
      by_cases g : e4 = 0
      · have ge := beq_iff_eq.2 g
        clear g
        go_wp2_with fail
        all_goals
          go_meet
          case rel => exact ⟨congrArg Value.bool (by have f := H3.out; have g := beq_iff_eq.1 ge; clear ge; simp <;> omega), rfl⟩
      · have ge : (e4 == 0) = false := by simpa using g
        go_wp2_with fail
        all_goals
          go_meet
          case rel => exact ⟨congrArg Value.bool (by have f := H3.out; clear ge; simp <;> omega), rfl⟩
    case rest =>
    obtain ⟨rfl, rfl⟩ := hcut
    by_cases hq : 0 ≤ a1 ∧ a1 ≤ 1000000000000000
    · obtain ⟨q0, q1⟩ := hq
      have g6 : wrap64 (a0 + a1) = a0 + a1 := wrap_sm (by omega) (by omega)
      have g7 : ¬ a1 < 0 := by omega
      have g8 : ¬ 1000000000000000 < a1 := by omega
      go_wp2_with fail
      refine (of_any _ _ _).mono ?_
      rintro e w10 ⟨rfl, hb⟩
      have c0 := (hb.cell (p := ⟨w.heap.size, 0, none⟩) (by simp; omega)).trans c0
      have c1 := (hb.cell (p := ⟨w.heap.size, 1, none⟩) (by simp; omega)).trans c1
      have c2 := (hb.cell (p := ⟨w.heap.size + 1, 0, none⟩) (by simp; omega)).trans c2
      have c3 := (hb.cell (p := ⟨w.heap.size + 1, 1, none⟩) (by simp; omega)).trans c3
      have z10 : w.heap.size + 2 ≤ w10.heap.size := by have := hb.size; omega
      have HB10 := hide (HB9.out.trans (hb.mono HB9.out.size))
      clear hb
      go_wp2_with fail
      refine ((V5 _).out).mono ?_
      rintro e w11 ⟨rfl, hb⟩
      have HB11 := hide (HB10.out.trans (hb.mono HB10.out.size))
      clear hb
      go_wp2_with fail
      refine ((K _).out).mono ?_
      rintro e w12 ⟨rfl, hb⟩
      have HB12 := hide (HB11.out.trans (hb.mono HB11.out.size))
      clear hb
      go_upto_region 17 with fail
      go_wp2_with fail
      all_goals go_ret
      all_goals first | exact ⟨rfl, HB12.out⟩ | skip
      refine ⟨congrArg (fun b => Ending.returned (Value.bool b)) ?_, HB12.out⟩
      have f := H4.out (by assumption) (by assumption)
      have b := H5.out (by assumption)
      have k1 : wrap64 (v1 + v2) = v1 + v2 := wrap_sm (by omega) (by omega)
      have k2 : wrap64 (v1 + v2 + 1) = v1 + v2 + 1 := wrap_sm (by omega) (by omega)
      rw [k1, k2]
      rcases f with f | f
      · rw [f]; simp
      · rw [f]; simp
    · have hq2 : a1 < 0 ∨ (¬ a1 < 0 ∧ 1000000000000000 < a1) := by omega
      clear hq
      rcases hq2 with g7 | ⟨g7, g8⟩
      · go_wp2_with fail
        refine ((K _).out).mono ?_
        rintro e w10 ⟨rfl, hb⟩
        have HB10 := hide (HB9.out.trans (hb.mono HB9.out.size))
        clear hb
        go_wp2_with fail
        go_ret
        exact ⟨rfl, HB10.out⟩
      · go_wp2_with fail
        refine ((K _).out).mono ?_
        rintro e w10 ⟨rfl, hb⟩
        have HB10 := hide (HB9.out.trans (hb.mono HB9.out.size))
        clear hb
        go_wp2_with fail
        go_ret
        exact ⟨rfl, HB10.out⟩
  · go_wp2_with fail
    refine ((K _).out).mono ?_
    rintro e w3 ⟨rfl, hb⟩
    have HB3 := hide (HB2.out.trans (hb.mono HB2.out.size))
    clear hb
    go_wp2_with fail
    go_ret
    exact ⟨rfl, HB3.out⟩
end Go.Proofs.Ythgeeobbenjioab
