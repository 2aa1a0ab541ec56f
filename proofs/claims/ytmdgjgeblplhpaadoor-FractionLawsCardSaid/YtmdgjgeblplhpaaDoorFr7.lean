/-
  Contract of the reference's Combine at this translation. Conditions: the arguments fit their kinds.
-/
import Derived.Test.YtmdgjgeblplhpaaDoorFr6
namespace Go.Proofs.YtmdgjgeblplhpaaDoor
open Go.RowKit
set_option linter.unusedVariables false

set_option maxHeartbeats 1000000 in
theorem rcomb0 (n1 d1 n2 d2 : Int) (w : World) (a1 : I64 n1) (a2 : I64 d1) (a3 : I64 n2) (a4 : I64 d2) :
    Calls Tryd.prog 20 #[.int .i64 0, .agg #[.int .i64 n1, .int .i64 d1], .agg #[.int .i64 n2, .int .i64 d2]] w fun e w' => e = .returned (.tuple #[.agg #[.int .i64 (cbN 0 n1 d1 n2 d2), .int .i64 (cbD 0 n1 d1 n2 d2)], .int .i64 (cbE 0 n1 d1 n2 d2)]) ∧ Below w.heap.size w w' := by
  have C1 := fun w => hide (rcheck_any n1 d1 w a1.1 a1.2 a2.1 a2.2)
  have C2 := fun w => hide (rcheck_any n2 d2 w a3.1 a3.2 a4.1 a4.2)
  clear a1 a2 a3 a4
  by_cases g1 : ckE n1 d1 = 0
  · by_cases g2 : ckE n2 d2 = 0
    · obtain ⟨f1, f2, f3⟩ := cb_of (op := 0) g1 g2
      obtain ⟨i1, i2⟩ := op_bd (op := 0) g1 g2
      have NW := fun w => hide (rnew_any _ _ w i1 i2)
      obtain ⟨b1, b2, b3, b4, _⟩ := ck_ok g1
      obtain ⟨b5, b6, b7, b8, _⟩ := ck_ok g2
      have eN : opN 0 n1 d1 n2 d2 = n1 * d2 + n2 * d1 := rfl
      have eD : opD 0 d1 n2 d2 = d1 * d2 := rfl
      have m1 := mul_bd b3 b4 (show -1000000000 ≤ d2 by omega) b6
      have m2 := mul_bd b7 b8 (show -1000000000 ≤ d1 by omega) b2
      have m3 := mul_bd b3 b4 b7 b8
      have m4 := mul_bd (show -1000000000 ≤ d1 by omega) b2 (show -1000000000 ≤ d2 by omega) b6
      have m5 := mul_bd (show -1000000000 ≤ d1 by omega) b2 b7 b8
      have w1 : wrap64 (n1 * d2) = n1 * d2 := wrap_small (by omega) (by omega)
      have w2 : wrap64 (n2 * d1) = n2 * d1 := wrap_small (by omega) (by omega)
      have w3 : wrap64 (n1 * n2) = n1 * n2 := wrap_small (by omega) (by omega)
      have w4 : wrap64 (d1 * d2) = d1 * d2 := wrap_small (by omega) (by omega)
      have w5 : wrap64 (d1 * n2) = d1 * n2 := wrap_small (by omega) (by omega)
      have w6 : wrap64 (n1 * d2 + n2 * d1) = n1 * d2 + n2 * d1 := wrap_small (by omega) (by omega)
      have w7 : wrap64 (n1 * d2 - n2 * d1) = n1 * d2 - n2 * d1 := wrap_small (by omega) (by omega)
      rw [eN, eD] at f1 f2 f3 NW
      rw [g1] at C1
      rw [g2] at C2
      have HF := hide (show _ ∧ _ ∧ _ from ⟨f1.symm, f2.symm, f3.symm⟩)
      clear g1 g2 f1 f2 f3 i1 i2 b1 b2 b3 b4 b5 b6 b7 b8 m1 m2 m3 m4 m5 eN eD
      generalize cbN 0 n1 d1 n2 d2 = A at *
      generalize cbD 0 n1 d1 n2 d2 = B at *
      generalize cbE 0 n1 d1 n2 d2 = E at *
      go_enter Tryd.func20, Tryd.ntmps20
      go_wp2_with fail
      refine (C1 _).out.mono ?_
      rintro e w1 ⟨rfl, hb⟩
      have c0 := (hb.cell (p := ⟨w.heap.size, 0, none⟩) (by simp; omega)).trans (show _ = some (Value.int .i64 n1) by simp [go_sem])
      have c1 := (hb.cell (p := ⟨w.heap.size, 1, none⟩) (by simp; omega)).trans (show _ = some (Value.int .i64 d1) by simp [go_sem])
      have c2 := (hb.cell (p := ⟨w.heap.size + 1, 0, none⟩) (by simp)).trans (show _ = some (Value.int .i64 n2) by simp [go_sem])
      have c3 := (hb.cell (p := ⟨w.heap.size + 1, 1, none⟩) (by simp)).trans (show _ = some (Value.int .i64 d2) by simp [go_sem])
      have c4 := (hb.cell (p := ⟨w.heap.size + 1 + 1, 0, none⟩) (by simp)).trans (show _ = some (Value.int .i64 0) by simp [go_sem])
      have c5 := (hb.cell (p := ⟨w.heap.size + 1 + 1, 1, none⟩) (by simp)).trans (show _ = some (Value.int .i64 0) by simp [go_sem])
      have z0 := (hb.frozen (p := ⟨w.heap.size + 1 + 1, 0, none⟩) (by simp)).trans (show _ = false by simp [go_sem])
      have z2 := (hb.frozen (p := ⟨w.heap.size + 1 + 1, 1, none⟩) (by simp)).trans (show _ = false by simp [go_sem])
      have HB1 := hide (show Below w.heap.size w w1 from ((((Below.refl w.heap.size w).alloc (Nat.le_refl _) _).alloc (by simp) _).alloc (by simp; omega) _).trans (hb.mono (by simp; omega)))
      have sz1 : w.heap.size + 3 ≤ w1.heap.size := by have := hb.size; simp at this; omega
      clear hb
      go_wp2_with fail
      refine (C2 _).out.mono ?_
      rintro e w2 ⟨rfl, hb⟩
      have c0 := (hb.cell (p := ⟨w.heap.size, 0, none⟩) (by simp; omega)).trans c0
      have c1 := (hb.cell (p := ⟨w.heap.size, 1, none⟩) (by simp; omega)).trans c1
      have c2 := (hb.cell (p := ⟨w.heap.size + 1, 0, none⟩) (by simp; omega)).trans c2
      have c3 := (hb.cell (p := ⟨w.heap.size + 1, 1, none⟩) (by simp; omega)).trans c3
      have c4 := (hb.cell (p := ⟨w.heap.size + 1 + 1, 0, none⟩) (by simp; omega)).trans c4
      have c5 := (hb.cell (p := ⟨w.heap.size + 1 + 1, 1, none⟩) (by simp; omega)).trans c5
      have z0 := (hb.frozen (p := ⟨w.heap.size + 1 + 1, 0, none⟩) (by simp; omega)).trans z0
      have z2 := (hb.frozen (p := ⟨w.heap.size + 1 + 1, 1, none⟩) (by simp; omega)).trans z2
      have HB2 := hide (HB1.out.trans (hb.mono HB1.out.size))
      have sz2 : w.heap.size + 3 ≤ w2.heap.size := by have := hb.size; omega
      clear hb
      go_wp2_with fail
      refine (NW _).out.mono ?_
      rintro e w3 ⟨rfl, hb⟩
      have d4 := (hb.cell (p := ⟨w.heap.size + 1 + 1, 0, none⟩) (by simp; omega)).trans c4
      have d5 := (hb.cell (p := ⟨w.heap.size + 1 + 1, 1, none⟩) (by simp; omega)).trans c5
      have z1 := (hb.frozen (p := ⟨w.heap.size + 1 + 1, 0, none⟩) (by simp; omega)).trans z0
      have z3 := (hb.frozen (p := ⟨w.heap.size + 1 + 1, 1, none⟩) (by simp; omega)).trans z2
      have HB3 := hide (HB2.out.trans (hb.mono HB2.out.size))
      clear hb
      go_wp2_with fail
      exact bodyPost_ret (v := .tuple #[.agg #[.int .i64 (nwN (n1 * d2 + n2 * d1) (d1 * d2)), .int .i64 (nwD (n1 * d2 + n2 * d1) (d1 * d2))], .int .i64 (nwE (n1 * d2 + n2 * d1) (d1 * d2))]) (by simp [results, Tryd.results20, go_sem, d4, d5]) rfl
        ⟨ret_frE HF.out.2.1 HF.out.2.2 HF.out.1, by have := HB3.out; repeat' (first | exact this | refine Below.setCell ?_ ?_ _ | (simp; done) | (simp; omega))⟩
    · have hE : cbE 0 n1 d1 n2 d2 = ckE n2 d2 ∧ cbN 0 n1 d1 n2 d2 = 0 ∧ cbD 0 n1 d1 n2 d2 = 0 := by simp [cbE, cbN, cbD, bothE, g1, g2]
      have HE := hide hE
      rw [g1] at C1
      generalize ckE n2 d2 = X at *
      have e1 : (X == 0) = false := by simpa using g2
      have e2 : (X != 0) = true := by simpa using g2
      clear hE g1 g2
      generalize cbN 0 n1 d1 n2 d2 = A at *
      generalize cbD 0 n1 d1 n2 d2 = B at *
      generalize cbE 0 n1 d1 n2 d2 = E at *
      go_enter Tryd.func20, Tryd.ntmps20
      go_wp2_with fail
      refine (C1 _).out.mono ?_
      rintro e w1 ⟨rfl, hb⟩
      have c2 := (hb.cell (p := ⟨w.heap.size + 1, 0, none⟩) (by simp)).trans (show _ = some (Value.int .i64 n2) by simp [go_sem])
      have c3 := (hb.cell (p := ⟨w.heap.size + 1, 1, none⟩) (by simp)).trans (show _ = some (Value.int .i64 d2) by simp [go_sem])
      have c4 := (hb.cell (p := ⟨w.heap.size + 1 + 1, 0, none⟩) (by simp)).trans (show _ = some (Value.int .i64 0) by simp [go_sem])
      have c5 := (hb.cell (p := ⟨w.heap.size + 1 + 1, 1, none⟩) (by simp)).trans (show _ = some (Value.int .i64 0) by simp [go_sem])
      have z0 := (hb.frozen (p := ⟨w.heap.size + 1 + 1, 0, none⟩) (by simp)).trans (show _ = false by simp [go_sem])
      have z2 := (hb.frozen (p := ⟨w.heap.size + 1 + 1, 1, none⟩) (by simp)).trans (show _ = false by simp [go_sem])
      have HB1 := hide (show Below w.heap.size w w1 from ((((Below.refl w.heap.size w).alloc (Nat.le_refl _) _).alloc (by simp) _).alloc (by simp; omega) _).trans (hb.mono (by simp; omega)))
      have sz1 : w.heap.size + 3 ≤ w1.heap.size := by have := hb.size; simp at this; omega
      clear hb
      go_wp2_with fail
      refine (C2 _).out.mono ?_
      rintro e w2 ⟨rfl, hb⟩
      have c4 := (hb.cell (p := ⟨w.heap.size + 1 + 1, 0, none⟩) (by simp; omega)).trans c4
      have c5 := (hb.cell (p := ⟨w.heap.size + 1 + 1, 1, none⟩) (by simp; omega)).trans c5
      have z0 := (hb.frozen (p := ⟨w.heap.size + 1 + 1, 0, none⟩) (by simp; omega)).trans z0
      have z2 := (hb.frozen (p := ⟨w.heap.size + 1 + 1, 1, none⟩) (by simp; omega)).trans z2
      have HB2 := hide (HB1.out.trans (hb.mono HB1.out.size))
      clear hb
      go_wp2_with fail
      exact bodyPost_ret (v := .tuple #[.agg #[.int .i64 0, .int .i64 0], .int .i64 X]) (by simp [results, Tryd.results20, go_sem, c4, c5]) rfl
        ⟨ret_frE HE.out.2.1.symm HE.out.2.2.symm HE.out.1.symm, by have := HB2.out; repeat' (first | exact this | refine Below.setCell ?_ ?_ _ | (simp; done) | (simp; omega))⟩
  · have hE : cbE 0 n1 d1 n2 d2 = ckE n1 d1 ∧ cbN 0 n1 d1 n2 d2 = 0 ∧ cbD 0 n1 d1 n2 d2 = 0 := by simp [cbE, cbN, cbD, bothE, g1]
    have HE := hide hE
    generalize ckE n1 d1 = X at *
    have e1 : (X == 0) = false := by simpa using g1
    have e2 : (X != 0) = true := by simpa using g1
    clear hE g1
    generalize cbN 0 n1 d1 n2 d2 = A at *
    generalize cbD 0 n1 d1 n2 d2 = B at *
    generalize cbE 0 n1 d1 n2 d2 = E at *
    go_enter Tryd.func20, Tryd.ntmps20
    go_wp2_with fail
    refine (C1 _).out.mono ?_
    rintro e w1 ⟨rfl, hb⟩
    have c4 := (hb.cell (p := ⟨w.heap.size + 1 + 1, 0, none⟩) (by simp)).trans (show _ = some (Value.int .i64 0) by simp [go_sem])
    have c5 := (hb.cell (p := ⟨w.heap.size + 1 + 1, 1, none⟩) (by simp)).trans (show _ = some (Value.int .i64 0) by simp [go_sem])
    have z0 := (hb.frozen (p := ⟨w.heap.size + 1 + 1, 0, none⟩) (by simp)).trans (show _ = false by simp [go_sem])
    have z2 := (hb.frozen (p := ⟨w.heap.size + 1 + 1, 1, none⟩) (by simp)).trans (show _ = false by simp [go_sem])
    have HB1 := hide (show Below w.heap.size w w1 from ((((Below.refl w.heap.size w).alloc (Nat.le_refl _) _).alloc (by simp) _).alloc (by simp; omega) _).trans (hb.mono (by simp; omega)))
    clear hb
    go_wp2_with fail
    exact bodyPost_ret (v := .tuple #[.agg #[.int .i64 0, .int .i64 0], .int .i64 X]) (by simp [results, Tryd.results20, go_sem, c4, c5]) rfl
      ⟨ret_frE HE.out.2.1.symm HE.out.2.2.symm HE.out.1.symm, by have := HB1.out; repeat' (first | exact this | refine Below.setCell ?_ ?_ _ | (simp; done) | (simp; omega))⟩

set_option maxHeartbeats 1000000 in
theorem rcomb1 (n1 d1 n2 d2 : Int) (w : World) (a1 : I64 n1) (a2 : I64 d1) (a3 : I64 n2) (a4 : I64 d2) :
    Calls Tryd.prog 20 #[.int .i64 1, .agg #[.int .i64 n1, .int .i64 d1], .agg #[.int .i64 n2, .int .i64 d2]] w fun e w' => e = .returned (.tuple #[.agg #[.int .i64 (cbN 1 n1 d1 n2 d2), .int .i64 (cbD 1 n1 d1 n2 d2)], .int .i64 (cbE 1 n1 d1 n2 d2)]) ∧ Below w.heap.size w w' := by
  have C1 := fun w => hide (rcheck_any n1 d1 w a1.1 a1.2 a2.1 a2.2)
  have C2 := fun w => hide (rcheck_any n2 d2 w a3.1 a3.2 a4.1 a4.2)
  clear a1 a2 a3 a4
  by_cases g1 : ckE n1 d1 = 0
  · by_cases g2 : ckE n2 d2 = 0
    · obtain ⟨f1, f2, f3⟩ := cb_of (op := 1) g1 g2
      obtain ⟨i1, i2⟩ := op_bd (op := 1) g1 g2
      have NW := fun w => hide (rnew_any _ _ w i1 i2)
      obtain ⟨b1, b2, b3, b4, _⟩ := ck_ok g1
      obtain ⟨b5, b6, b7, b8, _⟩ := ck_ok g2
      have eN : opN 1 n1 d1 n2 d2 = n1 * d2 - n2 * d1 := rfl
      have eD : opD 1 d1 n2 d2 = d1 * d2 := rfl
      have m1 := mul_bd b3 b4 (show -1000000000 ≤ d2 by omega) b6
      have m2 := mul_bd b7 b8 (show -1000000000 ≤ d1 by omega) b2
      have m3 := mul_bd b3 b4 b7 b8
      have m4 := mul_bd (show -1000000000 ≤ d1 by omega) b2 (show -1000000000 ≤ d2 by omega) b6
      have m5 := mul_bd (show -1000000000 ≤ d1 by omega) b2 b7 b8
      have w1 : wrap64 (n1 * d2) = n1 * d2 := wrap_small (by omega) (by omega)
      have w2 : wrap64 (n2 * d1) = n2 * d1 := wrap_small (by omega) (by omega)
      have w3 : wrap64 (n1 * n2) = n1 * n2 := wrap_small (by omega) (by omega)
      have w4 : wrap64 (d1 * d2) = d1 * d2 := wrap_small (by omega) (by omega)
      have w5 : wrap64 (d1 * n2) = d1 * n2 := wrap_small (by omega) (by omega)
      have w6 : wrap64 (n1 * d2 + n2 * d1) = n1 * d2 + n2 * d1 := wrap_small (by omega) (by omega)
      have w7 : wrap64 (n1 * d2 - n2 * d1) = n1 * d2 - n2 * d1 := wrap_small (by omega) (by omega)
      rw [eN, eD] at f1 f2 f3 NW
      rw [g1] at C1
      rw [g2] at C2
      have HF := hide (show _ ∧ _ ∧ _ from ⟨f1.symm, f2.symm, f3.symm⟩)
      clear g1 g2 f1 f2 f3 i1 i2 b1 b2 b3 b4 b5 b6 b7 b8 m1 m2 m3 m4 m5 eN eD
      generalize cbN 1 n1 d1 n2 d2 = A at *
      generalize cbD 1 n1 d1 n2 d2 = B at *
      generalize cbE 1 n1 d1 n2 d2 = E at *
      go_enter Tryd.func20, Tryd.ntmps20
      go_wp2_with fail
      refine (C1 _).out.mono ?_
      rintro e w1 ⟨rfl, hb⟩
      have c0 := (hb.cell (p := ⟨w.heap.size, 0, none⟩) (by simp; omega)).trans (show _ = some (Value.int .i64 n1) by simp [go_sem])
      have c1 := (hb.cell (p := ⟨w.heap.size, 1, none⟩) (by simp; omega)).trans (show _ = some (Value.int .i64 d1) by simp [go_sem])
      have c2 := (hb.cell (p := ⟨w.heap.size + 1, 0, none⟩) (by simp)).trans (show _ = some (Value.int .i64 n2) by simp [go_sem])
      have c3 := (hb.cell (p := ⟨w.heap.size + 1, 1, none⟩) (by simp)).trans (show _ = some (Value.int .i64 d2) by simp [go_sem])
      have c4 := (hb.cell (p := ⟨w.heap.size + 1 + 1, 0, none⟩) (by simp)).trans (show _ = some (Value.int .i64 0) by simp [go_sem])
      have c5 := (hb.cell (p := ⟨w.heap.size + 1 + 1, 1, none⟩) (by simp)).trans (show _ = some (Value.int .i64 0) by simp [go_sem])
      have z0 := (hb.frozen (p := ⟨w.heap.size + 1 + 1, 0, none⟩) (by simp)).trans (show _ = false by simp [go_sem])
      have z2 := (hb.frozen (p := ⟨w.heap.size + 1 + 1, 1, none⟩) (by simp)).trans (show _ = false by simp [go_sem])
      have HB1 := hide (show Below w.heap.size w w1 from ((((Below.refl w.heap.size w).alloc (Nat.le_refl _) _).alloc (by simp) _).alloc (by simp; omega) _).trans (hb.mono (by simp; omega)))
      have sz1 : w.heap.size + 3 ≤ w1.heap.size := by have := hb.size; simp at this; omega
      clear hb
      go_wp2_with fail
      refine (C2 _).out.mono ?_
      rintro e w2 ⟨rfl, hb⟩
      have c0 := (hb.cell (p := ⟨w.heap.size, 0, none⟩) (by simp; omega)).trans c0
      have c1 := (hb.cell (p := ⟨w.heap.size, 1, none⟩) (by simp; omega)).trans c1
      have c2 := (hb.cell (p := ⟨w.heap.size + 1, 0, none⟩) (by simp; omega)).trans c2
      have c3 := (hb.cell (p := ⟨w.heap.size + 1, 1, none⟩) (by simp; omega)).trans c3
      have c4 := (hb.cell (p := ⟨w.heap.size + 1 + 1, 0, none⟩) (by simp; omega)).trans c4
      have c5 := (hb.cell (p := ⟨w.heap.size + 1 + 1, 1, none⟩) (by simp; omega)).trans c5
      have z0 := (hb.frozen (p := ⟨w.heap.size + 1 + 1, 0, none⟩) (by simp; omega)).trans z0
      have z2 := (hb.frozen (p := ⟨w.heap.size + 1 + 1, 1, none⟩) (by simp; omega)).trans z2
      have HB2 := hide (HB1.out.trans (hb.mono HB1.out.size))
      have sz2 : w.heap.size + 3 ≤ w2.heap.size := by have := hb.size; omega
      clear hb
      go_wp2_with fail
      refine (NW _).out.mono ?_
      rintro e w3 ⟨rfl, hb⟩
      have d4 := (hb.cell (p := ⟨w.heap.size + 1 + 1, 0, none⟩) (by simp; omega)).trans c4
      have d5 := (hb.cell (p := ⟨w.heap.size + 1 + 1, 1, none⟩) (by simp; omega)).trans c5
      have z1 := (hb.frozen (p := ⟨w.heap.size + 1 + 1, 0, none⟩) (by simp; omega)).trans z0
      have z3 := (hb.frozen (p := ⟨w.heap.size + 1 + 1, 1, none⟩) (by simp; omega)).trans z2
      have HB3 := hide (HB2.out.trans (hb.mono HB2.out.size))
      clear hb
      go_wp2_with fail
      exact bodyPost_ret (v := .tuple #[.agg #[.int .i64 (nwN (n1 * d2 - n2 * d1) (d1 * d2)), .int .i64 (nwD (n1 * d2 - n2 * d1) (d1 * d2))], .int .i64 (nwE (n1 * d2 - n2 * d1) (d1 * d2))]) (by simp [results, Tryd.results20, go_sem, d4, d5]) rfl
        ⟨ret_frE HF.out.2.1 HF.out.2.2 HF.out.1, by have := HB3.out; repeat' (first | exact this | refine Below.setCell ?_ ?_ _ | (simp; done) | (simp; omega))⟩
    · have hE : cbE 1 n1 d1 n2 d2 = ckE n2 d2 ∧ cbN 1 n1 d1 n2 d2 = 0 ∧ cbD 1 n1 d1 n2 d2 = 0 := by simp [cbE, cbN, cbD, bothE, g1, g2]
      have HE := hide hE
      rw [g1] at C1
      generalize ckE n2 d2 = X at *
      have e1 : (X == 0) = false := by simpa using g2
      have e2 : (X != 0) = true := by simpa using g2
      clear hE g1 g2
      generalize cbN 1 n1 d1 n2 d2 = A at *
      generalize cbD 1 n1 d1 n2 d2 = B at *
      generalize cbE 1 n1 d1 n2 d2 = E at *
      go_enter Tryd.func20, Tryd.ntmps20
      go_wp2_with fail
      refine (C1 _).out.mono ?_
      rintro e w1 ⟨rfl, hb⟩
      have c2 := (hb.cell (p := ⟨w.heap.size + 1, 0, none⟩) (by simp)).trans (show _ = some (Value.int .i64 n2) by simp [go_sem])
      have c3 := (hb.cell (p := ⟨w.heap.size + 1, 1, none⟩) (by simp)).trans (show _ = some (Value.int .i64 d2) by simp [go_sem])
      have c4 := (hb.cell (p := ⟨w.heap.size + 1 + 1, 0, none⟩) (by simp)).trans (show _ = some (Value.int .i64 0) by simp [go_sem])
      have c5 := (hb.cell (p := ⟨w.heap.size + 1 + 1, 1, none⟩) (by simp)).trans (show _ = some (Value.int .i64 0) by simp [go_sem])
      have z0 := (hb.frozen (p := ⟨w.heap.size + 1 + 1, 0, none⟩) (by simp)).trans (show _ = false by simp [go_sem])
      have z2 := (hb.frozen (p := ⟨w.heap.size + 1 + 1, 1, none⟩) (by simp)).trans (show _ = false by simp [go_sem])
      have HB1 := hide (show Below w.heap.size w w1 from ((((Below.refl w.heap.size w).alloc (Nat.le_refl _) _).alloc (by simp) _).alloc (by simp; omega) _).trans (hb.mono (by simp; omega)))
      have sz1 : w.heap.size + 3 ≤ w1.heap.size := by have := hb.size; simp at this; omega
      clear hb
      go_wp2_with fail
      refine (C2 _).out.mono ?_
      rintro e w2 ⟨rfl, hb⟩
      have c4 := (hb.cell (p := ⟨w.heap.size + 1 + 1, 0, none⟩) (by simp; omega)).trans c4
      have c5 := (hb.cell (p := ⟨w.heap.size + 1 + 1, 1, none⟩) (by simp; omega)).trans c5
      have z0 := (hb.frozen (p := ⟨w.heap.size + 1 + 1, 0, none⟩) (by simp; omega)).trans z0
      have z2 := (hb.frozen (p := ⟨w.heap.size + 1 + 1, 1, none⟩) (by simp; omega)).trans z2
      have HB2 := hide (HB1.out.trans (hb.mono HB1.out.size))
      clear hb
      go_wp2_with fail
      exact bodyPost_ret (v := .tuple #[.agg #[.int .i64 0, .int .i64 0], .int .i64 X]) (by simp [results, Tryd.results20, go_sem, c4, c5]) rfl
        ⟨ret_frE HE.out.2.1.symm HE.out.2.2.symm HE.out.1.symm, by have := HB2.out; repeat' (first | exact this | refine Below.setCell ?_ ?_ _ | (simp; done) | (simp; omega))⟩
  · have hE : cbE 1 n1 d1 n2 d2 = ckE n1 d1 ∧ cbN 1 n1 d1 n2 d2 = 0 ∧ cbD 1 n1 d1 n2 d2 = 0 := by simp [cbE, cbN, cbD, bothE, g1]
    have HE := hide hE
    generalize ckE n1 d1 = X at *
    have e1 : (X == 0) = false := by simpa using g1
    have e2 : (X != 0) = true := by simpa using g1
    clear hE g1
    generalize cbN 1 n1 d1 n2 d2 = A at *
    generalize cbD 1 n1 d1 n2 d2 = B at *
    generalize cbE 1 n1 d1 n2 d2 = E at *
    go_enter Tryd.func20, Tryd.ntmps20
    go_wp2_with fail
    refine (C1 _).out.mono ?_
    rintro e w1 ⟨rfl, hb⟩
    have c4 := (hb.cell (p := ⟨w.heap.size + 1 + 1, 0, none⟩) (by simp)).trans (show _ = some (Value.int .i64 0) by simp [go_sem])
    have c5 := (hb.cell (p := ⟨w.heap.size + 1 + 1, 1, none⟩) (by simp)).trans (show _ = some (Value.int .i64 0) by simp [go_sem])
    have z0 := (hb.frozen (p := ⟨w.heap.size + 1 + 1, 0, none⟩) (by simp)).trans (show _ = false by simp [go_sem])
    have z2 := (hb.frozen (p := ⟨w.heap.size + 1 + 1, 1, none⟩) (by simp)).trans (show _ = false by simp [go_sem])
    have HB1 := hide (show Below w.heap.size w w1 from ((((Below.refl w.heap.size w).alloc (Nat.le_refl _) _).alloc (by simp) _).alloc (by simp; omega) _).trans (hb.mono (by simp; omega)))
    clear hb
    go_wp2_with fail
    exact bodyPost_ret (v := .tuple #[.agg #[.int .i64 0, .int .i64 0], .int .i64 X]) (by simp [results, Tryd.results20, go_sem, c4, c5]) rfl
      ⟨ret_frE HE.out.2.1.symm HE.out.2.2.symm HE.out.1.symm, by have := HB1.out; repeat' (first | exact this | refine Below.setCell ?_ ?_ _ | (simp; done) | (simp; omega))⟩

set_option maxHeartbeats 1000000 in
theorem rcomb2 (n1 d1 n2 d2 : Int) (w : World) (a1 : I64 n1) (a2 : I64 d1) (a3 : I64 n2) (a4 : I64 d2) :
    Calls Tryd.prog 20 #[.int .i64 2, .agg #[.int .i64 n1, .int .i64 d1], .agg #[.int .i64 n2, .int .i64 d2]] w fun e w' => e = .returned (.tuple #[.agg #[.int .i64 (cbN 2 n1 d1 n2 d2), .int .i64 (cbD 2 n1 d1 n2 d2)], .int .i64 (cbE 2 n1 d1 n2 d2)]) ∧ Below w.heap.size w w' := by
  have C1 := fun w => hide (rcheck_any n1 d1 w a1.1 a1.2 a2.1 a2.2)
  have C2 := fun w => hide (rcheck_any n2 d2 w a3.1 a3.2 a4.1 a4.2)
  clear a1 a2 a3 a4
  by_cases g1 : ckE n1 d1 = 0
  · by_cases g2 : ckE n2 d2 = 0
    · obtain ⟨f1, f2, f3⟩ := cb_of (op := 2) g1 g2
      obtain ⟨i1, i2⟩ := op_bd (op := 2) g1 g2
      have NW := fun w => hide (rnew_any _ _ w i1 i2)
      obtain ⟨b1, b2, b3, b4, _⟩ := ck_ok g1
      obtain ⟨b5, b6, b7, b8, _⟩ := ck_ok g2
      have eN : opN 2 n1 d1 n2 d2 = n1 * n2 := rfl
      have eD : opD 2 d1 n2 d2 = d1 * d2 := rfl
      have m1 := mul_bd b3 b4 (show -1000000000 ≤ d2 by omega) b6
      have m2 := mul_bd b7 b8 (show -1000000000 ≤ d1 by omega) b2
      have m3 := mul_bd b3 b4 b7 b8
      have m4 := mul_bd (show -1000000000 ≤ d1 by omega) b2 (show -1000000000 ≤ d2 by omega) b6
      have m5 := mul_bd (show -1000000000 ≤ d1 by omega) b2 b7 b8
      have w1 : wrap64 (n1 * d2) = n1 * d2 := wrap_small (by omega) (by omega)
      have w2 : wrap64 (n2 * d1) = n2 * d1 := wrap_small (by omega) (by omega)
      have w3 : wrap64 (n1 * n2) = n1 * n2 := wrap_small (by omega) (by omega)
      have w4 : wrap64 (d1 * d2) = d1 * d2 := wrap_small (by omega) (by omega)
      have w5 : wrap64 (d1 * n2) = d1 * n2 := wrap_small (by omega) (by omega)
      have w6 : wrap64 (n1 * d2 + n2 * d1) = n1 * d2 + n2 * d1 := wrap_small (by omega) (by omega)
      have w7 : wrap64 (n1 * d2 - n2 * d1) = n1 * d2 - n2 * d1 := wrap_small (by omega) (by omega)
      rw [eN, eD] at f1 f2 f3 NW
      rw [g1] at C1
      rw [g2] at C2
      have HF := hide (show _ ∧ _ ∧ _ from ⟨f1.symm, f2.symm, f3.symm⟩)
      clear g1 g2 f1 f2 f3 i1 i2 b1 b2 b3 b4 b5 b6 b7 b8 m1 m2 m3 m4 m5 eN eD
      generalize cbN 2 n1 d1 n2 d2 = A at *
      generalize cbD 2 n1 d1 n2 d2 = B at *
      generalize cbE 2 n1 d1 n2 d2 = E at *
      go_enter Tryd.func20, Tryd.ntmps20
      go_wp2_with fail
      refine (C1 _).out.mono ?_
      rintro e w1 ⟨rfl, hb⟩
      have c0 := (hb.cell (p := ⟨w.heap.size, 0, none⟩) (by simp; omega)).trans (show _ = some (Value.int .i64 n1) by simp [go_sem])
      have c1 := (hb.cell (p := ⟨w.heap.size, 1, none⟩) (by simp; omega)).trans (show _ = some (Value.int .i64 d1) by simp [go_sem])
      have c2 := (hb.cell (p := ⟨w.heap.size + 1, 0, none⟩) (by simp)).trans (show _ = some (Value.int .i64 n2) by simp [go_sem])
      have c3 := (hb.cell (p := ⟨w.heap.size + 1, 1, none⟩) (by simp)).trans (show _ = some (Value.int .i64 d2) by simp [go_sem])
      have c4 := (hb.cell (p := ⟨w.heap.size + 1 + 1, 0, none⟩) (by simp)).trans (show _ = some (Value.int .i64 0) by simp [go_sem])
      have c5 := (hb.cell (p := ⟨w.heap.size + 1 + 1, 1, none⟩) (by simp)).trans (show _ = some (Value.int .i64 0) by simp [go_sem])
      have z0 := (hb.frozen (p := ⟨w.heap.size + 1 + 1, 0, none⟩) (by simp)).trans (show _ = false by simp [go_sem])
      have z2 := (hb.frozen (p := ⟨w.heap.size + 1 + 1, 1, none⟩) (by simp)).trans (show _ = false by simp [go_sem])
      have HB1 := hide (show Below w.heap.size w w1 from ((((Below.refl w.heap.size w).alloc (Nat.le_refl _) _).alloc (by simp) _).alloc (by simp; omega) _).trans (hb.mono (by simp; omega)))
      have sz1 : w.heap.size + 3 ≤ w1.heap.size := by have := hb.size; simp at this; omega
      clear hb
      go_wp2_with fail
      refine (C2 _).out.mono ?_
      rintro e w2 ⟨rfl, hb⟩
      have c0 := (hb.cell (p := ⟨w.heap.size, 0, none⟩) (by simp; omega)).trans c0
      have c1 := (hb.cell (p := ⟨w.heap.size, 1, none⟩) (by simp; omega)).trans c1
      have c2 := (hb.cell (p := ⟨w.heap.size + 1, 0, none⟩) (by simp; omega)).trans c2
      have c3 := (hb.cell (p := ⟨w.heap.size + 1, 1, none⟩) (by simp; omega)).trans c3
      have c4 := (hb.cell (p := ⟨w.heap.size + 1 + 1, 0, none⟩) (by simp; omega)).trans c4
      have c5 := (hb.cell (p := ⟨w.heap.size + 1 + 1, 1, none⟩) (by simp; omega)).trans c5
      have z0 := (hb.frozen (p := ⟨w.heap.size + 1 + 1, 0, none⟩) (by simp; omega)).trans z0
      have z2 := (hb.frozen (p := ⟨w.heap.size + 1 + 1, 1, none⟩) (by simp; omega)).trans z2
      have HB2 := hide (HB1.out.trans (hb.mono HB1.out.size))
      have sz2 : w.heap.size + 3 ≤ w2.heap.size := by have := hb.size; omega
      clear hb
      go_wp2_with fail
      refine (NW _).out.mono ?_
      rintro e w3 ⟨rfl, hb⟩
      have d4 := (hb.cell (p := ⟨w.heap.size + 1 + 1, 0, none⟩) (by simp; omega)).trans c4
      have d5 := (hb.cell (p := ⟨w.heap.size + 1 + 1, 1, none⟩) (by simp; omega)).trans c5
      have z1 := (hb.frozen (p := ⟨w.heap.size + 1 + 1, 0, none⟩) (by simp; omega)).trans z0
      have z3 := (hb.frozen (p := ⟨w.heap.size + 1 + 1, 1, none⟩) (by simp; omega)).trans z2
      have HB3 := hide (HB2.out.trans (hb.mono HB2.out.size))
      clear hb
      go_wp2_with fail
      exact bodyPost_ret (v := .tuple #[.agg #[.int .i64 (nwN (n1 * n2) (d1 * d2)), .int .i64 (nwD (n1 * n2) (d1 * d2))], .int .i64 (nwE (n1 * n2) (d1 * d2))]) (by simp [results, Tryd.results20, go_sem, d4, d5]) rfl
        ⟨ret_frE HF.out.2.1 HF.out.2.2 HF.out.1, by have := HB3.out; repeat' (first | exact this | refine Below.setCell ?_ ?_ _ | (simp; done) | (simp; omega))⟩
    · have hE : cbE 2 n1 d1 n2 d2 = ckE n2 d2 ∧ cbN 2 n1 d1 n2 d2 = 0 ∧ cbD 2 n1 d1 n2 d2 = 0 := by simp [cbE, cbN, cbD, bothE, g1, g2]
      have HE := hide hE
      rw [g1] at C1
      generalize ckE n2 d2 = X at *
      have e1 : (X == 0) = false := by simpa using g2
      have e2 : (X != 0) = true := by simpa using g2
      clear hE g1 g2
      generalize cbN 2 n1 d1 n2 d2 = A at *
      generalize cbD 2 n1 d1 n2 d2 = B at *
      generalize cbE 2 n1 d1 n2 d2 = E at *
      go_enter Tryd.func20, Tryd.ntmps20
      go_wp2_with fail
      refine (C1 _).out.mono ?_
      rintro e w1 ⟨rfl, hb⟩
      have c2 := (hb.cell (p := ⟨w.heap.size + 1, 0, none⟩) (by simp)).trans (show _ = some (Value.int .i64 n2) by simp [go_sem])
      have c3 := (hb.cell (p := ⟨w.heap.size + 1, 1, none⟩) (by simp)).trans (show _ = some (Value.int .i64 d2) by simp [go_sem])
      have c4 := (hb.cell (p := ⟨w.heap.size + 1 + 1, 0, none⟩) (by simp)).trans (show _ = some (Value.int .i64 0) by simp [go_sem])
      have c5 := (hb.cell (p := ⟨w.heap.size + 1 + 1, 1, none⟩) (by simp)).trans (show _ = some (Value.int .i64 0) by simp [go_sem])
      have z0 := (hb.frozen (p := ⟨w.heap.size + 1 + 1, 0, none⟩) (by simp)).trans (show _ = false by simp [go_sem])
      have z2 := (hb.frozen (p := ⟨w.heap.size + 1 + 1, 1, none⟩) (by simp)).trans (show _ = false by simp [go_sem])
      have HB1 := hide (show Below w.heap.size w w1 from ((((Below.refl w.heap.size w).alloc (Nat.le_refl _) _).alloc (by simp) _).alloc (by simp; omega) _).trans (hb.mono (by simp; omega)))
      have sz1 : w.heap.size + 3 ≤ w1.heap.size := by have := hb.size; simp at this; omega
      clear hb
      go_wp2_with fail
      refine (C2 _).out.mono ?_
      rintro e w2 ⟨rfl, hb⟩
      have c4 := (hb.cell (p := ⟨w.heap.size + 1 + 1, 0, none⟩) (by simp; omega)).trans c4
      have c5 := (hb.cell (p := ⟨w.heap.size + 1 + 1, 1, none⟩) (by simp; omega)).trans c5
      have z0 := (hb.frozen (p := ⟨w.heap.size + 1 + 1, 0, none⟩) (by simp; omega)).trans z0
      have z2 := (hb.frozen (p := ⟨w.heap.size + 1 + 1, 1, none⟩) (by simp; omega)).trans z2
      have HB2 := hide (HB1.out.trans (hb.mono HB1.out.size))
      clear hb
      go_wp2_with fail
      exact bodyPost_ret (v := .tuple #[.agg #[.int .i64 0, .int .i64 0], .int .i64 X]) (by simp [results, Tryd.results20, go_sem, c4, c5]) rfl
        ⟨ret_frE HE.out.2.1.symm HE.out.2.2.symm HE.out.1.symm, by have := HB2.out; repeat' (first | exact this | refine Below.setCell ?_ ?_ _ | (simp; done) | (simp; omega))⟩
  · have hE : cbE 2 n1 d1 n2 d2 = ckE n1 d1 ∧ cbN 2 n1 d1 n2 d2 = 0 ∧ cbD 2 n1 d1 n2 d2 = 0 := by simp [cbE, cbN, cbD, bothE, g1]
    have HE := hide hE
    generalize ckE n1 d1 = X at *
    have e1 : (X == 0) = false := by simpa using g1
    have e2 : (X != 0) = true := by simpa using g1
    clear hE g1
    generalize cbN 2 n1 d1 n2 d2 = A at *
    generalize cbD 2 n1 d1 n2 d2 = B at *
    generalize cbE 2 n1 d1 n2 d2 = E at *
    go_enter Tryd.func20, Tryd.ntmps20
    go_wp2_with fail
    refine (C1 _).out.mono ?_
    rintro e w1 ⟨rfl, hb⟩
    have c4 := (hb.cell (p := ⟨w.heap.size + 1 + 1, 0, none⟩) (by simp)).trans (show _ = some (Value.int .i64 0) by simp [go_sem])
    have c5 := (hb.cell (p := ⟨w.heap.size + 1 + 1, 1, none⟩) (by simp)).trans (show _ = some (Value.int .i64 0) by simp [go_sem])
    have z0 := (hb.frozen (p := ⟨w.heap.size + 1 + 1, 0, none⟩) (by simp)).trans (show _ = false by simp [go_sem])
    have z2 := (hb.frozen (p := ⟨w.heap.size + 1 + 1, 1, none⟩) (by simp)).trans (show _ = false by simp [go_sem])
    have HB1 := hide (show Below w.heap.size w w1 from ((((Below.refl w.heap.size w).alloc (Nat.le_refl _) _).alloc (by simp) _).alloc (by simp; omega) _).trans (hb.mono (by simp; omega)))
    clear hb
    go_wp2_with fail
    exact bodyPost_ret (v := .tuple #[.agg #[.int .i64 0, .int .i64 0], .int .i64 X]) (by simp [results, Tryd.results20, go_sem, c4, c5]) rfl
      ⟨ret_frE HE.out.2.1.symm HE.out.2.2.symm HE.out.1.symm, by have := HB1.out; repeat' (first | exact this | refine Below.setCell ?_ ?_ _ | (simp; done) | (simp; omega))⟩

set_option maxHeartbeats 1000000 in
theorem rcomb3 (n1 d1 n2 d2 : Int) (w : World) (a1 : I64 n1) (a2 : I64 d1) (a3 : I64 n2) (a4 : I64 d2) :
    Calls Tryd.prog 20 #[.int .i64 3, .agg #[.int .i64 n1, .int .i64 d1], .agg #[.int .i64 n2, .int .i64 d2]] w fun e w' => e = .returned (.tuple #[.agg #[.int .i64 (cbN 3 n1 d1 n2 d2), .int .i64 (cbD 3 n1 d1 n2 d2)], .int .i64 (cbE 3 n1 d1 n2 d2)]) ∧ Below w.heap.size w w' := by
  have C1 := fun w => hide (rcheck_any n1 d1 w a1.1 a1.2 a2.1 a2.2)
  have C2 := fun w => hide (rcheck_any n2 d2 w a3.1 a3.2 a4.1 a4.2)
  clear a1 a2 a3 a4
  by_cases g1 : ckE n1 d1 = 0
  · by_cases g2 : ckE n2 d2 = 0
    · obtain ⟨f1, f2, f3⟩ := cb_of (op := 3) g1 g2
      obtain ⟨i1, i2⟩ := op_bd (op := 3) g1 g2
      have NW := fun w => hide (rnew_any _ _ w i1 i2)
      obtain ⟨b1, b2, b3, b4, _⟩ := ck_ok g1
      obtain ⟨b5, b6, b7, b8, _⟩ := ck_ok g2
      have eN : opN 3 n1 d1 n2 d2 = n1 * d2 := rfl
      have eD : opD 3 d1 n2 d2 = d1 * n2 := rfl
      have m1 := mul_bd b3 b4 (show -1000000000 ≤ d2 by omega) b6
      have m2 := mul_bd b7 b8 (show -1000000000 ≤ d1 by omega) b2
      have m3 := mul_bd b3 b4 b7 b8
      have m4 := mul_bd (show -1000000000 ≤ d1 by omega) b2 (show -1000000000 ≤ d2 by omega) b6
      have m5 := mul_bd (show -1000000000 ≤ d1 by omega) b2 b7 b8
      have w1 : wrap64 (n1 * d2) = n1 * d2 := wrap_small (by omega) (by omega)
      have w2 : wrap64 (n2 * d1) = n2 * d1 := wrap_small (by omega) (by omega)
      have w3 : wrap64 (n1 * n2) = n1 * n2 := wrap_small (by omega) (by omega)
      have w4 : wrap64 (d1 * d2) = d1 * d2 := wrap_small (by omega) (by omega)
      have w5 : wrap64 (d1 * n2) = d1 * n2 := wrap_small (by omega) (by omega)
      have w6 : wrap64 (n1 * d2 + n2 * d1) = n1 * d2 + n2 * d1 := wrap_small (by omega) (by omega)
      have w7 : wrap64 (n1 * d2 - n2 * d1) = n1 * d2 - n2 * d1 := wrap_small (by omega) (by omega)
      rw [eN, eD] at f1 f2 f3 NW
      rw [g1] at C1
      rw [g2] at C2
      have HF := hide (show _ ∧ _ ∧ _ from ⟨f1.symm, f2.symm, f3.symm⟩)
      clear g1 g2 f1 f2 f3 i1 i2 b1 b2 b3 b4 b5 b6 b7 b8 m1 m2 m3 m4 m5 eN eD
      generalize cbN 3 n1 d1 n2 d2 = A at *
      generalize cbD 3 n1 d1 n2 d2 = B at *
      generalize cbE 3 n1 d1 n2 d2 = E at *
      go_enter Tryd.func20, Tryd.ntmps20
      go_wp2_with fail
      refine (C1 _).out.mono ?_
      rintro e w1 ⟨rfl, hb⟩
      have c0 := (hb.cell (p := ⟨w.heap.size, 0, none⟩) (by simp; omega)).trans (show _ = some (Value.int .i64 n1) by simp [go_sem])
      have c1 := (hb.cell (p := ⟨w.heap.size, 1, none⟩) (by simp; omega)).trans (show _ = some (Value.int .i64 d1) by simp [go_sem])
      have c2 := (hb.cell (p := ⟨w.heap.size + 1, 0, none⟩) (by simp)).trans (show _ = some (Value.int .i64 n2) by simp [go_sem])
      have c3 := (hb.cell (p := ⟨w.heap.size + 1, 1, none⟩) (by simp)).trans (show _ = some (Value.int .i64 d2) by simp [go_sem])
      have c4 := (hb.cell (p := ⟨w.heap.size + 1 + 1, 0, none⟩) (by simp)).trans (show _ = some (Value.int .i64 0) by simp [go_sem])
      have c5 := (hb.cell (p := ⟨w.heap.size + 1 + 1, 1, none⟩) (by simp)).trans (show _ = some (Value.int .i64 0) by simp [go_sem])
      have z0 := (hb.frozen (p := ⟨w.heap.size + 1 + 1, 0, none⟩) (by simp)).trans (show _ = false by simp [go_sem])
      have z2 := (hb.frozen (p := ⟨w.heap.size + 1 + 1, 1, none⟩) (by simp)).trans (show _ = false by simp [go_sem])
      have HB1 := hide (show Below w.heap.size w w1 from ((((Below.refl w.heap.size w).alloc (Nat.le_refl _) _).alloc (by simp) _).alloc (by simp; omega) _).trans (hb.mono (by simp; omega)))
      have sz1 : w.heap.size + 3 ≤ w1.heap.size := by have := hb.size; simp at this; omega
      clear hb
      go_wp2_with fail
      refine (C2 _).out.mono ?_
      rintro e w2 ⟨rfl, hb⟩
      have c0 := (hb.cell (p := ⟨w.heap.size, 0, none⟩) (by simp; omega)).trans c0
      have c1 := (hb.cell (p := ⟨w.heap.size, 1, none⟩) (by simp; omega)).trans c1
      have c2 := (hb.cell (p := ⟨w.heap.size + 1, 0, none⟩) (by simp; omega)).trans c2
      have c3 := (hb.cell (p := ⟨w.heap.size + 1, 1, none⟩) (by simp; omega)).trans c3
      have c4 := (hb.cell (p := ⟨w.heap.size + 1 + 1, 0, none⟩) (by simp; omega)).trans c4
      have c5 := (hb.cell (p := ⟨w.heap.size + 1 + 1, 1, none⟩) (by simp; omega)).trans c5
      have z0 := (hb.frozen (p := ⟨w.heap.size + 1 + 1, 0, none⟩) (by simp; omega)).trans z0
      have z2 := (hb.frozen (p := ⟨w.heap.size + 1 + 1, 1, none⟩) (by simp; omega)).trans z2
      have HB2 := hide (HB1.out.trans (hb.mono HB1.out.size))
      have sz2 : w.heap.size + 3 ≤ w2.heap.size := by have := hb.size; omega
      clear hb
      go_wp2_with fail
      refine (NW _).out.mono ?_
      rintro e w3 ⟨rfl, hb⟩
      have d4 := (hb.cell (p := ⟨w.heap.size + 1 + 1, 0, none⟩) (by simp; omega)).trans c4
      have d5 := (hb.cell (p := ⟨w.heap.size + 1 + 1, 1, none⟩) (by simp; omega)).trans c5
      have z1 := (hb.frozen (p := ⟨w.heap.size + 1 + 1, 0, none⟩) (by simp; omega)).trans z0
      have z3 := (hb.frozen (p := ⟨w.heap.size + 1 + 1, 1, none⟩) (by simp; omega)).trans z2
      have HB3 := hide (HB2.out.trans (hb.mono HB2.out.size))
      clear hb
      go_wp2_with fail
      exact bodyPost_ret (v := .tuple #[.agg #[.int .i64 (nwN (n1 * d2) (d1 * n2)), .int .i64 (nwD (n1 * d2) (d1 * n2))], .int .i64 (nwE (n1 * d2) (d1 * n2))]) (by simp [results, Tryd.results20, go_sem, d4, d5]) rfl
        ⟨ret_frE HF.out.2.1 HF.out.2.2 HF.out.1, by have := HB3.out; repeat' (first | exact this | refine Below.setCell ?_ ?_ _ | (simp; done) | (simp; omega))⟩
    · have hE : cbE 3 n1 d1 n2 d2 = ckE n2 d2 ∧ cbN 3 n1 d1 n2 d2 = 0 ∧ cbD 3 n1 d1 n2 d2 = 0 := by simp [cbE, cbN, cbD, bothE, g1, g2]
      have HE := hide hE
      rw [g1] at C1
      generalize ckE n2 d2 = X at *
      have e1 : (X == 0) = false := by simpa using g2
      have e2 : (X != 0) = true := by simpa using g2
      clear hE g1 g2
      generalize cbN 3 n1 d1 n2 d2 = A at *
      generalize cbD 3 n1 d1 n2 d2 = B at *
      generalize cbE 3 n1 d1 n2 d2 = E at *
      go_enter Tryd.func20, Tryd.ntmps20
      go_wp2_with fail
      refine (C1 _).out.mono ?_
      rintro e w1 ⟨rfl, hb⟩
      have c2 := (hb.cell (p := ⟨w.heap.size + 1, 0, none⟩) (by simp)).trans (show _ = some (Value.int .i64 n2) by simp [go_sem])
      have c3 := (hb.cell (p := ⟨w.heap.size + 1, 1, none⟩) (by simp)).trans (show _ = some (Value.int .i64 d2) by simp [go_sem])
      have c4 := (hb.cell (p := ⟨w.heap.size + 1 + 1, 0, none⟩) (by simp)).trans (show _ = some (Value.int .i64 0) by simp [go_sem])
      have c5 := (hb.cell (p := ⟨w.heap.size + 1 + 1, 1, none⟩) (by simp)).trans (show _ = some (Value.int .i64 0) by simp [go_sem])
      have z0 := (hb.frozen (p := ⟨w.heap.size + 1 + 1, 0, none⟩) (by simp)).trans (show _ = false by simp [go_sem])
      have z2 := (hb.frozen (p := ⟨w.heap.size + 1 + 1, 1, none⟩) (by simp)).trans (show _ = false by simp [go_sem])
      have HB1 := hide (show Below w.heap.size w w1 from ((((Below.refl w.heap.size w).alloc (Nat.le_refl _) _).alloc (by simp) _).alloc (by simp; omega) _).trans (hb.mono (by simp; omega)))
      have sz1 : w.heap.size + 3 ≤ w1.heap.size := by have := hb.size; simp at this; omega
      clear hb
      go_wp2_with fail
      refine (C2 _).out.mono ?_
      rintro e w2 ⟨rfl, hb⟩
      have c4 := (hb.cell (p := ⟨w.heap.size + 1 + 1, 0, none⟩) (by simp; omega)).trans c4
      have c5 := (hb.cell (p := ⟨w.heap.size + 1 + 1, 1, none⟩) (by simp; omega)).trans c5
      have z0 := (hb.frozen (p := ⟨w.heap.size + 1 + 1, 0, none⟩) (by simp; omega)).trans z0
      have z2 := (hb.frozen (p := ⟨w.heap.size + 1 + 1, 1, none⟩) (by simp; omega)).trans z2
      have HB2 := hide (HB1.out.trans (hb.mono HB1.out.size))
      clear hb
      go_wp2_with fail
      exact bodyPost_ret (v := .tuple #[.agg #[.int .i64 0, .int .i64 0], .int .i64 X]) (by simp [results, Tryd.results20, go_sem, c4, c5]) rfl
        ⟨ret_frE HE.out.2.1.symm HE.out.2.2.symm HE.out.1.symm, by have := HB2.out; repeat' (first | exact this | refine Below.setCell ?_ ?_ _ | (simp; done) | (simp; omega))⟩
  · have hE : cbE 3 n1 d1 n2 d2 = ckE n1 d1 ∧ cbN 3 n1 d1 n2 d2 = 0 ∧ cbD 3 n1 d1 n2 d2 = 0 := by simp [cbE, cbN, cbD, bothE, g1]
    have HE := hide hE
    generalize ckE n1 d1 = X at *
    have e1 : (X == 0) = false := by simpa using g1
    have e2 : (X != 0) = true := by simpa using g1
    clear hE g1
    generalize cbN 3 n1 d1 n2 d2 = A at *
    generalize cbD 3 n1 d1 n2 d2 = B at *
    generalize cbE 3 n1 d1 n2 d2 = E at *
    go_enter Tryd.func20, Tryd.ntmps20
    go_wp2_with fail
    refine (C1 _).out.mono ?_
    rintro e w1 ⟨rfl, hb⟩
    have c4 := (hb.cell (p := ⟨w.heap.size + 1 + 1, 0, none⟩) (by simp)).trans (show _ = some (Value.int .i64 0) by simp [go_sem])
    have c5 := (hb.cell (p := ⟨w.heap.size + 1 + 1, 1, none⟩) (by simp)).trans (show _ = some (Value.int .i64 0) by simp [go_sem])
    have z0 := (hb.frozen (p := ⟨w.heap.size + 1 + 1, 0, none⟩) (by simp)).trans (show _ = false by simp [go_sem])
    have z2 := (hb.frozen (p := ⟨w.heap.size + 1 + 1, 1, none⟩) (by simp)).trans (show _ = false by simp [go_sem])
    have HB1 := hide (show Below w.heap.size w w1 from ((((Below.refl w.heap.size w).alloc (Nat.le_refl _) _).alloc (by simp) _).alloc (by simp; omega) _).trans (hb.mono (by simp; omega)))
    clear hb
    go_wp2_with fail
    exact bodyPost_ret (v := .tuple #[.agg #[.int .i64 0, .int .i64 0], .int .i64 X]) (by simp [results, Tryd.results20, go_sem, c4, c5]) rfl
      ⟨ret_frE HE.out.2.1.symm HE.out.2.2.symm HE.out.1.symm, by have := HB1.out; repeat' (first | exact this | refine Below.setCell ?_ ?_ _ | (simp; done) | (simp; omega))⟩
end Go.Proofs.YtmdgjgeblplhpaaDoor
