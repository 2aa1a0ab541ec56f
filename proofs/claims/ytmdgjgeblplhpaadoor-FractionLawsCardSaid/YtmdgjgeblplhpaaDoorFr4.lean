/-
  Contracts of fraction's checkBoth, Add, Sub, Mul, Div and of the statement's combine at this translation. Conditions: the arguments fit their kinds.
-/
import Derived.Test.YtmdgjgeblplhpaaDoorFr3
namespace Go.Proofs.YtmdgjgeblplhpaaDoor
open Go.RowKit
set_option linter.unusedVariables false

theorem both_any (n1 d1 n2 d2 : Int) (w : World) (a1 : I64 n1) (a2 : I64 d1) (a3 : I64 n2) (a4 : I64 d2) :
    Calls Tryd.prog 37 #[.agg #[.int .i64 n1, .int .i64 d1], .agg #[.int .i64 n2, .int .i64 d2]] w fun e w' => e = .returned (.int .i64 (bothE n1 d1 n2 d2)) ∧ Below w.heap.size w w' := by
  have C1 := fun w => hide (check_any n1 d1 w a1.1 a1.2 a2.1 a2.2)
  have C2 := fun w => hide (check_any n2 d2 w a3.1 a3.2 a4.1 a4.2)
  have HB := hide (show bothE n1 d1 n2 d2 = if ckE n1 d1 = 0 then ckE n2 d2 else ckE n1 d1 from rfl)
  clear a1 a2 a3 a4
  generalize bothE n1 d1 n2 d2 = E at *
  generalize ckE n1 d1 = E1 at *
  generalize ckE n2 d2 = E2 at *
  by_cases h : E1 = 0
  · have HE : Hid (E = E2) := hide (by rw [HB.out, if_pos h])
    clear HB
    subst h
    go_enter Tryd.func37, Tryd.ntmps37
    go_wp2_with fail
    refine (C1 _).out.mono ?_
    rintro e w1 ⟨rfl, hb⟩
    have c0 := (hb.cell (p := ⟨w.heap.size + 1, 0, none⟩) (by simp)).trans (show _ = some (Value.int .i64 n2) by simp [go_sem])
    have c1 := (hb.cell (p := ⟨w.heap.size + 1, 1, none⟩) (by simp)).trans (show _ = some (Value.int .i64 d2) by simp [go_sem])
    have HB1 := hide (show Below w.heap.size w w1 from (((Below.refl w.heap.size w).alloc (Nat.le_refl _) _).alloc (by simp) _).trans (hb.mono (by simp; omega)))
    clear hb
    go_wp2_with fail
    refine (C2 _).out.mono ?_
    rintro e w2 ⟨rfl, hb⟩
    have HB2 := hide (HB1.out.trans (hb.mono HB1.out.size))
    clear hb
    go_wp2_with fail
    go_ret
    exact ⟨ret_i HE.out.symm, HB2.out⟩
  · have HE : Hid (E = E1) := hide (by rw [HB.out, if_neg h])
    have e1 : (E1 == 0) = false := by simpa using h
    have e2 : (E1 != 0) = true := by simpa using h
    clear HB h
    go_enter Tryd.func37, Tryd.ntmps37
    go_wp2_with fail
    refine (C1 _).out.mono ?_
    rintro e w1 ⟨rfl, hb⟩
    have HB1 := hide (show Below w.heap.size w w1 from (((Below.refl w.heap.size w).alloc (Nat.le_refl _) _).alloc (by simp) _).trans (hb.mono (by simp; omega)))
    clear hb
    go_wp2_with fail
    go_ret
    exact ⟨ret_i HE.out.symm, HB1.out⟩

theorem mul_bd {a b : Int} (a1 : -1000000000 ≤ a) (a2 : a ≤ 1000000000) (b1 : -1000000000 ≤ b) (b2 : b ≤ 1000000000) : -1000000000000000000 ≤ a * b ∧ a * b ≤ 1000000000000000000 := by
  have h := Nat.mul_le_mul (show a.natAbs ≤ 1000000000 by omega) (show b.natAbs ≤ 1000000000 by omega)
  rw [← Int.natAbs_mul] at h
  omega
theorem wrap_small {a : Int} (h1 : -4000000000000000000 ≤ a) (h2 : a ≤ 4000000000000000000) : wrap64 a = a := by unfold wrap64; omega
/-- What the operation gives New fits. -/
theorem op_bd {op n1 d1 n2 d2 : Int} (h1 : ckE n1 d1 = 0) (h2 : ckE n2 d2 = 0) : I64 (opN op n1 d1 n2 d2) ∧ I64 (opD op d1 n2 d2) := by
  obtain ⟨a1, a2, a3, a4, _⟩ := ck_ok h1
  obtain ⟨b1, b2, b3, b4, _⟩ := ck_ok h2
  have m1 := mul_bd a3 a4 (show -1000000000 ≤ d2 by omega) b2
  have m2 := mul_bd b3 b4 (show -1000000000 ≤ d1 by omega) a2
  have m3 := mul_bd a3 a4 b3 b4
  have m4 := mul_bd (show -1000000000 ≤ d1 by omega) a2 (show -1000000000 ≤ d2 by omega) b2
  have m5 := mul_bd (show -1000000000 ≤ d1 by omega) a2 b3 b4
  unfold opN opD I64
  refine ⟨?_, ?_⟩
  · split; omega; split; omega; split <;> omega
  · split; omega; split; omega; split <;> omega

set_option maxHeartbeats 1000000 in
theorem fadd_any (n1 d1 n2 d2 : Int) (w : World) (a1 : I64 n1) (a2 : I64 d1) (a3 : I64 n2) (a4 : I64 d2) :
    Calls Tryd.prog 34 #[.agg #[.int .i64 n1, .int .i64 d1], .agg #[.int .i64 n2, .int .i64 d2]] w fun e w' => e = .returned (.tuple #[.agg #[.int .i64 (cbN 0 n1 d1 n2 d2), .int .i64 (cbD 0 n1 d1 n2 d2)], .int .i64 (cbE 0 n1 d1 n2 d2)]) ∧ Below w.heap.size w w' := by
  have C := fun w => hide (both_any n1 d1 n2 d2 w a1 a2 a3 a4)
  clear a1 a2 a3 a4
  by_cases h : bothE n1 d1 n2 d2 = 0
  · obtain ⟨h1, h2⟩ := both_ok h
    obtain ⟨f1, f2, f3⟩ := cb_of (op := 0) h1 h2
    obtain ⟨i1, i2⟩ := op_bd (op := 0) h1 h2
    have NW := fun w => hide (new_any _ _ w i1 i2)
    obtain ⟨b1, b2, b3, b4, _⟩ := ck_ok h1
    obtain ⟨b5, b6, b7, b8, _⟩ := ck_ok h2
    have eN : opN 0 n1 d1 n2 d2 = n1 * d2 + n2 * d1 := rfl
    have eD : opD 0 d1 n2 d2 = d1 * d2 := rfl
    have m1 := mul_bd b3 b4 (show -1000000000 ≤ d2 by omega) b6
    have m2 := mul_bd b7 b8 (show -1000000000 ≤ d1 by omega) b2
    have m3 := mul_bd b3 b4 b7 b8
    have m4 := mul_bd (show -1000000000 ≤ d1 by omega) b2 (show -1000000000 ≤ d2 by omega) b6
    have m5 := mul_bd (show -1000000000 ≤ d1 by omega) b2 b7 b8
    have w1 : wrap64 (n1 * d2) = n1 * d2 := wrap_small (by omega) (by omega)
    have w2 : wrap64 (n2 * d1) = n2 * d1 := wrap_small (by omega) (by omega)
    have w3 : wrap64 (n1 * n2) = n1 * n2 := wrap_small (by omega) (by omega)
    have w4 : wrap64 (d1 * d2) = d1 * d2 := wrap_small (by omega) (by omega)
    have w5 : wrap64 (d1 * n2) = d1 * n2 := wrap_small (by omega) (by omega)
    have w6 : wrap64 (n1 * d2 + n2 * d1) = n1 * d2 + n2 * d1 := wrap_small (by omega) (by omega)
    have w7 : wrap64 (n1 * d2 - n2 * d1) = n1 * d2 - n2 * d1 := wrap_small (by omega) (by omega)
    rw [eN, eD] at f1 f2 f3 NW
    rw [h] at C
    have HF := hide (show _ ∧ _ ∧ _ from ⟨f1.symm, f2.symm, f3.symm⟩)
    clear h h1 h2 f1 f2 f3 i1 i2 b1 b2 b3 b4 b5 b6 b7 b8 m1 m2 m3 m4 m5 eN eD
    generalize cbN 0 n1 d1 n2 d2 = A at *
    generalize cbD 0 n1 d1 n2 d2 = B at *
    generalize cbE 0 n1 d1 n2 d2 = E at *
    go_enter Tryd.func34, Tryd.ntmps34
    go_wp2_with fail
    refine (C _).out.mono ?_
    rintro e w1 ⟨rfl, hb⟩
    have c0 := (hb.cell (p := ⟨w.heap.size, 0, none⟩) (by simp; omega)).trans (show _ = some (Value.int .i64 n1) by simp [go_sem])
    have c1 := (hb.cell (p := ⟨w.heap.size, 1, none⟩) (by simp; omega)).trans (show _ = some (Value.int .i64 d1) by simp [go_sem])
    have c2 := (hb.cell (p := ⟨w.heap.size + 1, 0, none⟩) (by simp)).trans (show _ = some (Value.int .i64 n2) by simp [go_sem])
    have c3 := (hb.cell (p := ⟨w.heap.size + 1, 1, none⟩) (by simp)).trans (show _ = some (Value.int .i64 d2) by simp [go_sem])
    have c4 := (hb.cell (p := ⟨w.heap.size + 1 + 1, 0, none⟩) (by simp)).trans (show _ = some (Value.int .i64 0) by simp [go_sem])
    have c5 := (hb.cell (p := ⟨w.heap.size + 1 + 1, 1, none⟩) (by simp)).trans (show _ = some (Value.int .i64 0) by simp [go_sem])
    have z0 := (hb.frozen (p := ⟨w.heap.size + 1 + 1, 0, none⟩) (by simp)).trans (show _ = false by simp [go_sem])
    have z2 := (hb.frozen (p := ⟨w.heap.size + 1 + 1, 1, none⟩) (by simp)).trans (show _ = false by simp [go_sem])
    have HB1 := hide (show Below w.heap.size w w1 from ((((Below.refl w.heap.size w).alloc (Nat.le_refl _) _).alloc (by simp) _).alloc (by simp; omega) _).trans (hb.mono (by simp; omega)))
    have sz1 : w.heap.size + 3 ≤ w1.heap.size := by have := hb.size; simp at this; omega
    clear hb
    go_wp2_with fail
    refine (NW _).out.mono ?_
    rintro e w2 ⟨rfl, hb⟩
    have d4 := (hb.cell (p := ⟨w.heap.size + 1 + 1, 0, none⟩) (by simp; omega)).trans c4
    have d5 := (hb.cell (p := ⟨w.heap.size + 1 + 1, 1, none⟩) (by simp; omega)).trans c5
    have z1 := (hb.frozen (p := ⟨w.heap.size + 1 + 1, 0, none⟩) (by simp; omega)).trans z0
    have z3 := (hb.frozen (p := ⟨w.heap.size + 1 + 1, 1, none⟩) (by simp; omega)).trans z2
    have sz2 : w.heap.size + 3 ≤ w2.heap.size := by have := hb.size; omega
    have HB2 := hide (HB1.out.trans (hb.mono HB1.out.size))
    clear hb
    go_wp2_with fail
    exact bodyPost_ret (v := .tuple #[.agg #[.int .i64 (nwN (n1 * d2 + n2 * d1) (d1 * d2)), .int .i64 (nwD (n1 * d2 + n2 * d1) (d1 * d2))], .int .i64 (nwE (n1 * d2 + n2 * d1) (d1 * d2))]) (by simp [results, Tryd.results34, go_sem, d4, d5]) rfl
      ⟨ret_frE HF.out.2.1 HF.out.2.2 HF.out.1, by have := HB2.out; repeat' (first | exact this | refine Below.setCell ?_ ?_ _ | (simp; done) | (simp; omega))⟩
  · have hE : cbE 0 n1 d1 n2 d2 = bothE n1 d1 n2 d2 ∧ cbN 0 n1 d1 n2 d2 = 0 ∧ cbD 0 n1 d1 n2 d2 = 0 := by simp [cbE, cbN, cbD, h]
    have HE := hide hE
    generalize bothE n1 d1 n2 d2 = X at *
    have e1 : (X == 0) = false := by simpa using h
    have e2 : (X != 0) = true := by simpa using h
    clear hE h
    generalize cbN 0 n1 d1 n2 d2 = A at *
    generalize cbD 0 n1 d1 n2 d2 = B at *
    generalize cbE 0 n1 d1 n2 d2 = E at *
    go_enter Tryd.func34, Tryd.ntmps34
    go_wp2_with fail
    refine (C _).out.mono ?_
    rintro e w1 ⟨rfl, hb⟩
    have c4 := (hb.cell (p := ⟨w.heap.size + 1 + 1, 0, none⟩) (by simp)).trans (show _ = some (Value.int .i64 0) by simp [go_sem])
    have c5 := (hb.cell (p := ⟨w.heap.size + 1 + 1, 1, none⟩) (by simp)).trans (show _ = some (Value.int .i64 0) by simp [go_sem])
    have z0 := (hb.frozen (p := ⟨w.heap.size + 1 + 1, 0, none⟩) (by simp)).trans (show _ = false by simp [go_sem])
    have z2 := (hb.frozen (p := ⟨w.heap.size + 1 + 1, 1, none⟩) (by simp)).trans (show _ = false by simp [go_sem])
    have HB1 := hide (show Below w.heap.size w w1 from ((((Below.refl w.heap.size w).alloc (Nat.le_refl _) _).alloc (by simp) _).alloc (by simp; omega) _).trans (hb.mono (by simp; omega)))
    have sz1 : w.heap.size + 3 ≤ w1.heap.size := by have := hb.size; simp at this; omega
    clear hb
    go_wp2_with fail
    exact bodyPost_ret (v := .tuple #[.agg #[.int .i64 0, .int .i64 0], .int .i64 X]) (by simp [results, Tryd.results34, go_sem, c4, c5]) rfl
      ⟨ret_frE HE.out.2.1.symm HE.out.2.2.symm HE.out.1.symm, by have := HB1.out; repeat' (first | exact this | refine Below.setCell ?_ ?_ _ | (simp; done) | (simp; omega))⟩

set_option maxHeartbeats 1000000 in
theorem fsub_any (n1 d1 n2 d2 : Int) (w : World) (a1 : I64 n1) (a2 : I64 d1) (a3 : I64 n2) (a4 : I64 d2) :
    Calls Tryd.prog 23 #[.agg #[.int .i64 n1, .int .i64 d1], .agg #[.int .i64 n2, .int .i64 d2]] w fun e w' => e = .returned (.tuple #[.agg #[.int .i64 (cbN 1 n1 d1 n2 d2), .int .i64 (cbD 1 n1 d1 n2 d2)], .int .i64 (cbE 1 n1 d1 n2 d2)]) ∧ Below w.heap.size w w' := by
  have C := fun w => hide (both_any n1 d1 n2 d2 w a1 a2 a3 a4)
  clear a1 a2 a3 a4
  by_cases h : bothE n1 d1 n2 d2 = 0
  · obtain ⟨h1, h2⟩ := both_ok h
    obtain ⟨f1, f2, f3⟩ := cb_of (op := 1) h1 h2
    obtain ⟨i1, i2⟩ := op_bd (op := 1) h1 h2
    have NW := fun w => hide (new_any _ _ w i1 i2)
    obtain ⟨b1, b2, b3, b4, _⟩ := ck_ok h1
    obtain ⟨b5, b6, b7, b8, _⟩ := ck_ok h2
    have eN : opN 1 n1 d1 n2 d2 = n1 * d2 - n2 * d1 := rfl
    have eD : opD 1 d1 n2 d2 = d1 * d2 := rfl
    have m1 := mul_bd b3 b4 (show -1000000000 ≤ d2 by omega) b6
    have m2 := mul_bd b7 b8 (show -1000000000 ≤ d1 by omega) b2
    have m3 := mul_bd b3 b4 b7 b8
    have m4 := mul_bd (show -1000000000 ≤ d1 by omega) b2 (show -1000000000 ≤ d2 by omega) b6
    have m5 := mul_bd (show -1000000000 ≤ d1 by omega) b2 b7 b8
    have w1 : wrap64 (n1 * d2) = n1 * d2 := wrap_small (by omega) (by omega)
    have w2 : wrap64 (n2 * d1) = n2 * d1 := wrap_small (by omega) (by omega)
    have w3 : wrap64 (n1 * n2) = n1 * n2 := wrap_small (by omega) (by omega)
    have w4 : wrap64 (d1 * d2) = d1 * d2 := wrap_small (by omega) (by omega)
    have w5 : wrap64 (d1 * n2) = d1 * n2 := wrap_small (by omega) (by omega)
    have w6 : wrap64 (n1 * d2 + n2 * d1) = n1 * d2 + n2 * d1 := wrap_small (by omega) (by omega)
    have w7 : wrap64 (n1 * d2 - n2 * d1) = n1 * d2 - n2 * d1 := wrap_small (by omega) (by omega)
    rw [eN, eD] at f1 f2 f3 NW
    rw [h] at C
    have HF := hide (show _ ∧ _ ∧ _ from ⟨f1.symm, f2.symm, f3.symm⟩)
    clear h h1 h2 f1 f2 f3 i1 i2 b1 b2 b3 b4 b5 b6 b7 b8 m1 m2 m3 m4 m5 eN eD
    generalize cbN 1 n1 d1 n2 d2 = A at *
    generalize cbD 1 n1 d1 n2 d2 = B at *
    generalize cbE 1 n1 d1 n2 d2 = E at *
    go_enter Tryd.func23, Tryd.ntmps23
    go_wp2_with fail
    refine (C _).out.mono ?_
    rintro e w1 ⟨rfl, hb⟩
    have c0 := (hb.cell (p := ⟨w.heap.size, 0, none⟩) (by simp; omega)).trans (show _ = some (Value.int .i64 n1) by simp [go_sem])
    have c1 := (hb.cell (p := ⟨w.heap.size, 1, none⟩) (by simp; omega)).trans (show _ = some (Value.int .i64 d1) by simp [go_sem])
    have c2 := (hb.cell (p := ⟨w.heap.size + 1, 0, none⟩) (by simp)).trans (show _ = some (Value.int .i64 n2) by simp [go_sem])
    have c3 := (hb.cell (p := ⟨w.heap.size + 1, 1, none⟩) (by simp)).trans (show _ = some (Value.int .i64 d2) by simp [go_sem])
    have c4 := (hb.cell (p := ⟨w.heap.size + 1 + 1, 0, none⟩) (by simp)).trans (show _ = some (Value.int .i64 0) by simp [go_sem])
    have c5 := (hb.cell (p := ⟨w.heap.size + 1 + 1, 1, none⟩) (by simp)).trans (show _ = some (Value.int .i64 0) by simp [go_sem])
    have z0 := (hb.frozen (p := ⟨w.heap.size + 1 + 1, 0, none⟩) (by simp)).trans (show _ = false by simp [go_sem])
    have z2 := (hb.frozen (p := ⟨w.heap.size + 1 + 1, 1, none⟩) (by simp)).trans (show _ = false by simp [go_sem])
    have HB1 := hide (show Below w.heap.size w w1 from ((((Below.refl w.heap.size w).alloc (Nat.le_refl _) _).alloc (by simp) _).alloc (by simp; omega) _).trans (hb.mono (by simp; omega)))
    have sz1 : w.heap.size + 3 ≤ w1.heap.size := by have := hb.size; simp at this; omega
    clear hb
    go_wp2_with fail
    refine (NW _).out.mono ?_
    rintro e w2 ⟨rfl, hb⟩
    have d4 := (hb.cell (p := ⟨w.heap.size + 1 + 1, 0, none⟩) (by simp; omega)).trans c4
    have d5 := (hb.cell (p := ⟨w.heap.size + 1 + 1, 1, none⟩) (by simp; omega)).trans c5
    have z1 := (hb.frozen (p := ⟨w.heap.size + 1 + 1, 0, none⟩) (by simp; omega)).trans z0
    have z3 := (hb.frozen (p := ⟨w.heap.size + 1 + 1, 1, none⟩) (by simp; omega)).trans z2
    have sz2 : w.heap.size + 3 ≤ w2.heap.size := by have := hb.size; omega
    have HB2 := hide (HB1.out.trans (hb.mono HB1.out.size))
    clear hb
    go_wp2_with fail
    exact bodyPost_ret (v := .tuple #[.agg #[.int .i64 (nwN (n1 * d2 - n2 * d1) (d1 * d2)), .int .i64 (nwD (n1 * d2 - n2 * d1) (d1 * d2))], .int .i64 (nwE (n1 * d2 - n2 * d1) (d1 * d2))]) (by simp [results, Tryd.results23, go_sem, d4, d5]) rfl
      ⟨ret_frE HF.out.2.1 HF.out.2.2 HF.out.1, by have := HB2.out; repeat' (first | exact this | refine Below.setCell ?_ ?_ _ | (simp; done) | (simp; omega))⟩
  · have hE : cbE 1 n1 d1 n2 d2 = bothE n1 d1 n2 d2 ∧ cbN 1 n1 d1 n2 d2 = 0 ∧ cbD 1 n1 d1 n2 d2 = 0 := by simp [cbE, cbN, cbD, h]
    have HE := hide hE
    generalize bothE n1 d1 n2 d2 = X at *
    have e1 : (X == 0) = false := by simpa using h
    have e2 : (X != 0) = true := by simpa using h
    clear hE h
    generalize cbN 1 n1 d1 n2 d2 = A at *
    generalize cbD 1 n1 d1 n2 d2 = B at *
    generalize cbE 1 n1 d1 n2 d2 = E at *
    go_enter Tryd.func23, Tryd.ntmps23
    go_wp2_with fail
    refine (C _).out.mono ?_
    rintro e w1 ⟨rfl, hb⟩
    have c4 := (hb.cell (p := ⟨w.heap.size + 1 + 1, 0, none⟩) (by simp)).trans (show _ = some (Value.int .i64 0) by simp [go_sem])
    have c5 := (hb.cell (p := ⟨w.heap.size + 1 + 1, 1, none⟩) (by simp)).trans (show _ = some (Value.int .i64 0) by simp [go_sem])
    have z0 := (hb.frozen (p := ⟨w.heap.size + 1 + 1, 0, none⟩) (by simp)).trans (show _ = false by simp [go_sem])
    have z2 := (hb.frozen (p := ⟨w.heap.size + 1 + 1, 1, none⟩) (by simp)).trans (show _ = false by simp [go_sem])
    have HB1 := hide (show Below w.heap.size w w1 from ((((Below.refl w.heap.size w).alloc (Nat.le_refl _) _).alloc (by simp) _).alloc (by simp; omega) _).trans (hb.mono (by simp; omega)))
    have sz1 : w.heap.size + 3 ≤ w1.heap.size := by have := hb.size; simp at this; omega
    clear hb
    go_wp2_with fail
    exact bodyPost_ret (v := .tuple #[.agg #[.int .i64 0, .int .i64 0], .int .i64 X]) (by simp [results, Tryd.results23, go_sem, c4, c5]) rfl
      ⟨ret_frE HE.out.2.1.symm HE.out.2.2.symm HE.out.1.symm, by have := HB1.out; repeat' (first | exact this | refine Below.setCell ?_ ?_ _ | (simp; done) | (simp; omega))⟩

set_option maxHeartbeats 1000000 in
theorem fmul_any (n1 d1 n2 d2 : Int) (w : World) (a1 : I64 n1) (a2 : I64 d1) (a3 : I64 n2) (a4 : I64 d2) :
    Calls Tryd.prog 35 #[.agg #[.int .i64 n1, .int .i64 d1], .agg #[.int .i64 n2, .int .i64 d2]] w fun e w' => e = .returned (.tuple #[.agg #[.int .i64 (cbN 2 n1 d1 n2 d2), .int .i64 (cbD 2 n1 d1 n2 d2)], .int .i64 (cbE 2 n1 d1 n2 d2)]) ∧ Below w.heap.size w w' := by
  have C := fun w => hide (both_any n1 d1 n2 d2 w a1 a2 a3 a4)
  clear a1 a2 a3 a4
  by_cases h : bothE n1 d1 n2 d2 = 0
  · obtain ⟨h1, h2⟩ := both_ok h
    obtain ⟨f1, f2, f3⟩ := cb_of (op := 2) h1 h2
    obtain ⟨i1, i2⟩ := op_bd (op := 2) h1 h2
    have NW := fun w => hide (new_any _ _ w i1 i2)
    obtain ⟨b1, b2, b3, b4, _⟩ := ck_ok h1
    obtain ⟨b5, b6, b7, b8, _⟩ := ck_ok h2
    have eN : opN 2 n1 d1 n2 d2 = n1 * n2 := rfl
    have eD : opD 2 d1 n2 d2 = d1 * d2 := rfl
    have m1 := mul_bd b3 b4 (show -1000000000 ≤ d2 by omega) b6
    have m2 := mul_bd b7 b8 (show -1000000000 ≤ d1 by omega) b2
    have m3 := mul_bd b3 b4 b7 b8
    have m4 := mul_bd (show -1000000000 ≤ d1 by omega) b2 (show -1000000000 ≤ d2 by omega) b6
    have m5 := mul_bd (show -1000000000 ≤ d1 by omega) b2 b7 b8
    have w1 : wrap64 (n1 * d2) = n1 * d2 := wrap_small (by omega) (by omega)
    have w2 : wrap64 (n2 * d1) = n2 * d1 := wrap_small (by omega) (by omega)
    have w3 : wrap64 (n1 * n2) = n1 * n2 := wrap_small (by omega) (by omega)
    have w4 : wrap64 (d1 * d2) = d1 * d2 := wrap_small (by omega) (by omega)
    have w5 : wrap64 (d1 * n2) = d1 * n2 := wrap_small (by omega) (by omega)
    have w6 : wrap64 (n1 * d2 + n2 * d1) = n1 * d2 + n2 * d1 := wrap_small (by omega) (by omega)
    have w7 : wrap64 (n1 * d2 - n2 * d1) = n1 * d2 - n2 * d1 := wrap_small (by omega) (by omega)
    rw [eN, eD] at f1 f2 f3 NW
    rw [h] at C
    have HF := hide (show _ ∧ _ ∧ _ from ⟨f1.symm, f2.symm, f3.symm⟩)
    clear h h1 h2 f1 f2 f3 i1 i2 b1 b2 b3 b4 b5 b6 b7 b8 m1 m2 m3 m4 m5 eN eD
    generalize cbN 2 n1 d1 n2 d2 = A at *
    generalize cbD 2 n1 d1 n2 d2 = B at *
    generalize cbE 2 n1 d1 n2 d2 = E at *
    go_enter Tryd.func35, Tryd.ntmps35
    go_wp2_with fail
    refine (C _).out.mono ?_
    rintro e w1 ⟨rfl, hb⟩
    have c0 := (hb.cell (p := ⟨w.heap.size, 0, none⟩) (by simp; omega)).trans (show _ = some (Value.int .i64 n1) by simp [go_sem])
    have c1 := (hb.cell (p := ⟨w.heap.size, 1, none⟩) (by simp; omega)).trans (show _ = some (Value.int .i64 d1) by simp [go_sem])
    have c2 := (hb.cell (p := ⟨w.heap.size + 1, 0, none⟩) (by simp)).trans (show _ = some (Value.int .i64 n2) by simp [go_sem])
    have c3 := (hb.cell (p := ⟨w.heap.size + 1, 1, none⟩) (by simp)).trans (show _ = some (Value.int .i64 d2) by simp [go_sem])
    have c4 := (hb.cell (p := ⟨w.heap.size + 1 + 1, 0, none⟩) (by simp)).trans (show _ = some (Value.int .i64 0) by simp [go_sem])
    have c5 := (hb.cell (p := ⟨w.heap.size + 1 + 1, 1, none⟩) (by simp)).trans (show _ = some (Value.int .i64 0) by simp [go_sem])
    have z0 := (hb.frozen (p := ⟨w.heap.size + 1 + 1, 0, none⟩) (by simp)).trans (show _ = false by simp [go_sem])
    have z2 := (hb.frozen (p := ⟨w.heap.size + 1 + 1, 1, none⟩) (by simp)).trans (show _ = false by simp [go_sem])
    have HB1 := hide (show Below w.heap.size w w1 from ((((Below.refl w.heap.size w).alloc (Nat.le_refl _) _).alloc (by simp) _).alloc (by simp; omega) _).trans (hb.mono (by simp; omega)))
    have sz1 : w.heap.size + 3 ≤ w1.heap.size := by have := hb.size; simp at this; omega
    clear hb
    go_wp2_with fail
    refine (NW _).out.mono ?_
    rintro e w2 ⟨rfl, hb⟩
    have d4 := (hb.cell (p := ⟨w.heap.size + 1 + 1, 0, none⟩) (by simp; omega)).trans c4
    have d5 := (hb.cell (p := ⟨w.heap.size + 1 + 1, 1, none⟩) (by simp; omega)).trans c5
    have z1 := (hb.frozen (p := ⟨w.heap.size + 1 + 1, 0, none⟩) (by simp; omega)).trans z0
    have z3 := (hb.frozen (p := ⟨w.heap.size + 1 + 1, 1, none⟩) (by simp; omega)).trans z2
    have sz2 : w.heap.size + 3 ≤ w2.heap.size := by have := hb.size; omega
    have HB2 := hide (HB1.out.trans (hb.mono HB1.out.size))
    clear hb
    go_wp2_with fail
    exact bodyPost_ret (v := .tuple #[.agg #[.int .i64 (nwN (n1 * n2) (d1 * d2)), .int .i64 (nwD (n1 * n2) (d1 * d2))], .int .i64 (nwE (n1 * n2) (d1 * d2))]) (by simp [results, Tryd.results35, go_sem, d4, d5]) rfl
      ⟨ret_frE HF.out.2.1 HF.out.2.2 HF.out.1, by have := HB2.out; repeat' (first | exact this | refine Below.setCell ?_ ?_ _ | (simp; done) | (simp; omega))⟩
  · have hE : cbE 2 n1 d1 n2 d2 = bothE n1 d1 n2 d2 ∧ cbN 2 n1 d1 n2 d2 = 0 ∧ cbD 2 n1 d1 n2 d2 = 0 := by simp [cbE, cbN, cbD, h]
    have HE := hide hE
    generalize bothE n1 d1 n2 d2 = X at *
    have e1 : (X == 0) = false := by simpa using h
    have e2 : (X != 0) = true := by simpa using h
    clear hE h
    generalize cbN 2 n1 d1 n2 d2 = A at *
    generalize cbD 2 n1 d1 n2 d2 = B at *
    generalize cbE 2 n1 d1 n2 d2 = E at *
    go_enter Tryd.func35, Tryd.ntmps35
    go_wp2_with fail
    refine (C _).out.mono ?_
    rintro e w1 ⟨rfl, hb⟩
    have c4 := (hb.cell (p := ⟨w.heap.size + 1 + 1, 0, none⟩) (by simp)).trans (show _ = some (Value.int .i64 0) by simp [go_sem])
    have c5 := (hb.cell (p := ⟨w.heap.size + 1 + 1, 1, none⟩) (by simp)).trans (show _ = some (Value.int .i64 0) by simp [go_sem])
    have z0 := (hb.frozen (p := ⟨w.heap.size + 1 + 1, 0, none⟩) (by simp)).trans (show _ = false by simp [go_sem])
    have z2 := (hb.frozen (p := ⟨w.heap.size + 1 + 1, 1, none⟩) (by simp)).trans (show _ = false by simp [go_sem])
    have HB1 := hide (show Below w.heap.size w w1 from ((((Below.refl w.heap.size w).alloc (Nat.le_refl _) _).alloc (by simp) _).alloc (by simp; omega) _).trans (hb.mono (by simp; omega)))
    have sz1 : w.heap.size + 3 ≤ w1.heap.size := by have := hb.size; simp at this; omega
    clear hb
    go_wp2_with fail
    exact bodyPost_ret (v := .tuple #[.agg #[.int .i64 0, .int .i64 0], .int .i64 X]) (by simp [results, Tryd.results35, go_sem, c4, c5]) rfl
      ⟨ret_frE HE.out.2.1.symm HE.out.2.2.symm HE.out.1.symm, by have := HB1.out; repeat' (first | exact this | refine Below.setCell ?_ ?_ _ | (simp; done) | (simp; omega))⟩

set_option maxHeartbeats 1000000 in
theorem fdiv_any (n1 d1 n2 d2 : Int) (w : World) (a1 : I64 n1) (a2 : I64 d1) (a3 : I64 n2) (a4 : I64 d2) :
    Calls Tryd.prog 36 #[.agg #[.int .i64 n1, .int .i64 d1], .agg #[.int .i64 n2, .int .i64 d2]] w fun e w' => e = .returned (.tuple #[.agg #[.int .i64 (cbN 3 n1 d1 n2 d2), .int .i64 (cbD 3 n1 d1 n2 d2)], .int .i64 (cbE 3 n1 d1 n2 d2)]) ∧ Below w.heap.size w w' := by
  have C := fun w => hide (both_any n1 d1 n2 d2 w a1 a2 a3 a4)
  clear a1 a2 a3 a4
  by_cases h : bothE n1 d1 n2 d2 = 0
  · obtain ⟨h1, h2⟩ := both_ok h
    obtain ⟨f1, f2, f3⟩ := cb_of (op := 3) h1 h2
    obtain ⟨i1, i2⟩ := op_bd (op := 3) h1 h2
    have NW := fun w => hide (new_any _ _ w i1 i2)
    obtain ⟨b1, b2, b3, b4, _⟩ := ck_ok h1
    obtain ⟨b5, b6, b7, b8, _⟩ := ck_ok h2
    have eN : opN 3 n1 d1 n2 d2 = n1 * d2 := rfl
    have eD : opD 3 d1 n2 d2 = d1 * n2 := rfl
    have m1 := mul_bd b3 b4 (show -1000000000 ≤ d2 by omega) b6
    have m2 := mul_bd b7 b8 (show -1000000000 ≤ d1 by omega) b2
    have m3 := mul_bd b3 b4 b7 b8
    have m4 := mul_bd (show -1000000000 ≤ d1 by omega) b2 (show -1000000000 ≤ d2 by omega) b6
    have m5 := mul_bd (show -1000000000 ≤ d1 by omega) b2 b7 b8
    have w1 : wrap64 (n1 * d2) = n1 * d2 := wrap_small (by omega) (by omega)
    have w2 : wrap64 (n2 * d1) = n2 * d1 := wrap_small (by omega) (by omega)
    have w3 : wrap64 (n1 * n2) = n1 * n2 := wrap_small (by omega) (by omega)
    have w4 : wrap64 (d1 * d2) = d1 * d2 := wrap_small (by omega) (by omega)
    have w5 : wrap64 (d1 * n2) = d1 * n2 := wrap_small (by omega) (by omega)
    have w6 : wrap64 (n1 * d2 + n2 * d1) = n1 * d2 + n2 * d1 := wrap_small (by omega) (by omega)
    have w7 : wrap64 (n1 * d2 - n2 * d1) = n1 * d2 - n2 * d1 := wrap_small (by omega) (by omega)
    rw [eN, eD] at f1 f2 f3 NW
    rw [h] at C
    have HF := hide (show _ ∧ _ ∧ _ from ⟨f1.symm, f2.symm, f3.symm⟩)
    clear h h1 h2 f1 f2 f3 i1 i2 b1 b2 b3 b4 b5 b6 b7 b8 m1 m2 m3 m4 m5 eN eD
    generalize cbN 3 n1 d1 n2 d2 = A at *
    generalize cbD 3 n1 d1 n2 d2 = B at *
    generalize cbE 3 n1 d1 n2 d2 = E at *
    go_enter Tryd.func36, Tryd.ntmps36
    go_wp2_with fail
    refine (C _).out.mono ?_
    rintro e w1 ⟨rfl, hb⟩
    have c0 := (hb.cell (p := ⟨w.heap.size, 0, none⟩) (by simp; omega)).trans (show _ = some (Value.int .i64 n1) by simp [go_sem])
    have c1 := (hb.cell (p := ⟨w.heap.size, 1, none⟩) (by simp; omega)).trans (show _ = some (Value.int .i64 d1) by simp [go_sem])
    have c2 := (hb.cell (p := ⟨w.heap.size + 1, 0, none⟩) (by simp)).trans (show _ = some (Value.int .i64 n2) by simp [go_sem])
    have c3 := (hb.cell (p := ⟨w.heap.size + 1, 1, none⟩) (by simp)).trans (show _ = some (Value.int .i64 d2) by simp [go_sem])
    have c4 := (hb.cell (p := ⟨w.heap.size + 1 + 1, 0, none⟩) (by simp)).trans (show _ = some (Value.int .i64 0) by simp [go_sem])
    have c5 := (hb.cell (p := ⟨w.heap.size + 1 + 1, 1, none⟩) (by simp)).trans (show _ = some (Value.int .i64 0) by simp [go_sem])
    have z0 := (hb.frozen (p := ⟨w.heap.size + 1 + 1, 0, none⟩) (by simp)).trans (show _ = false by simp [go_sem])
    have z2 := (hb.frozen (p := ⟨w.heap.size + 1 + 1, 1, none⟩) (by simp)).trans (show _ = false by simp [go_sem])
    have HB1 := hide (show Below w.heap.size w w1 from ((((Below.refl w.heap.size w).alloc (Nat.le_refl _) _).alloc (by simp) _).alloc (by simp; omega) _).trans (hb.mono (by simp; omega)))
    have sz1 : w.heap.size + 3 ≤ w1.heap.size := by have := hb.size; simp at this; omega
    clear hb
    go_wp2_with fail
    refine (NW _).out.mono ?_
    rintro e w2 ⟨rfl, hb⟩
    have d4 := (hb.cell (p := ⟨w.heap.size + 1 + 1, 0, none⟩) (by simp; omega)).trans c4
    have d5 := (hb.cell (p := ⟨w.heap.size + 1 + 1, 1, none⟩) (by simp; omega)).trans c5
    have z1 := (hb.frozen (p := ⟨w.heap.size + 1 + 1, 0, none⟩) (by simp; omega)).trans z0
    have z3 := (hb.frozen (p := ⟨w.heap.size + 1 + 1, 1, none⟩) (by simp; omega)).trans z2
    have sz2 : w.heap.size + 3 ≤ w2.heap.size := by have := hb.size; omega
    have HB2 := hide (HB1.out.trans (hb.mono HB1.out.size))
    clear hb
    go_wp2_with fail
    exact bodyPost_ret (v := .tuple #[.agg #[.int .i64 (nwN (n1 * d2) (d1 * n2)), .int .i64 (nwD (n1 * d2) (d1 * n2))], .int .i64 (nwE (n1 * d2) (d1 * n2))]) (by simp [results, Tryd.results36, go_sem, d4, d5]) rfl
      ⟨ret_frE HF.out.2.1 HF.out.2.2 HF.out.1, by have := HB2.out; repeat' (first | exact this | refine Below.setCell ?_ ?_ _ | (simp; done) | (simp; omega))⟩
  · have hE : cbE 3 n1 d1 n2 d2 = bothE n1 d1 n2 d2 ∧ cbN 3 n1 d1 n2 d2 = 0 ∧ cbD 3 n1 d1 n2 d2 = 0 := by simp [cbE, cbN, cbD, h]
    have HE := hide hE
    generalize bothE n1 d1 n2 d2 = X at *
    have e1 : (X == 0) = false := by simpa using h
    have e2 : (X != 0) = true := by simpa using h
    clear hE h
    generalize cbN 3 n1 d1 n2 d2 = A at *
    generalize cbD 3 n1 d1 n2 d2 = B at *
    generalize cbE 3 n1 d1 n2 d2 = E at *
    go_enter Tryd.func36, Tryd.ntmps36
    go_wp2_with fail
    refine (C _).out.mono ?_
    rintro e w1 ⟨rfl, hb⟩
    have c4 := (hb.cell (p := ⟨w.heap.size + 1 + 1, 0, none⟩) (by simp)).trans (show _ = some (Value.int .i64 0) by simp [go_sem])
    have c5 := (hb.cell (p := ⟨w.heap.size + 1 + 1, 1, none⟩) (by simp)).trans (show _ = some (Value.int .i64 0) by simp [go_sem])
    have z0 := (hb.frozen (p := ⟨w.heap.size + 1 + 1, 0, none⟩) (by simp)).trans (show _ = false by simp [go_sem])
    have z2 := (hb.frozen (p := ⟨w.heap.size + 1 + 1, 1, none⟩) (by simp)).trans (show _ = false by simp [go_sem])
    have HB1 := hide (show Below w.heap.size w w1 from ((((Below.refl w.heap.size w).alloc (Nat.le_refl _) _).alloc (by simp) _).alloc (by simp; omega) _).trans (hb.mono (by simp; omega)))
    have sz1 : w.heap.size + 3 ≤ w1.heap.size := by have := hb.size; simp at this; omega
    clear hb
    go_wp2_with fail
    exact bodyPost_ret (v := .tuple #[.agg #[.int .i64 0, .int .i64 0], .int .i64 X]) (by simp [results, Tryd.results36, go_sem, c4, c5]) rfl
      ⟨ret_frE HE.out.2.1.symm HE.out.2.2.symm HE.out.1.symm, by have := HB1.out; repeat' (first | exact this | refine Below.setCell ?_ ?_ _ | (simp; done) | (simp; omega))⟩

set_option maxHeartbeats 1000000 in
theorem comb0 (n1 d1 n2 d2 : Int) (w : World) (a1 : I64 n1) (a2 : I64 d1) (a3 : I64 n2) (a4 : I64 d2) :
    Calls Tryd.prog 19 #[.int .i64 0, .agg #[.int .i64 n1, .int .i64 d1], .agg #[.int .i64 n2, .int .i64 d2]] w fun e w' => e = .returned (.tuple #[.agg #[.int .i64 (cbN 0 n1 d1 n2 d2), .int .i64 (cbD 0 n1 d1 n2 d2)], .int .i64 (cbE 0 n1 d1 n2 d2)]) ∧ Below w.heap.size w w' := by
  have C := fun w => hide (fadd_any n1 d1 n2 d2 w a1 a2 a3 a4)
  clear a1 a2 a3 a4
  generalize cbN 0 n1 d1 n2 d2 = A at *
  generalize cbD 0 n1 d1 n2 d2 = B at *
  generalize cbE 0 n1 d1 n2 d2 = E at *
  go_enter Tryd.func19, Tryd.ntmps19
  go_wp2_with fail
  refine (C _).out.mono ?_
  rintro e w1 ⟨rfl, hb⟩
  have c4 := (hb.cell (p := ⟨w.heap.size + 1 + 1, 0, none⟩) (by simp)).trans (show _ = some (Value.int .i64 0) by simp [go_sem])
  have c5 := (hb.cell (p := ⟨w.heap.size + 1 + 1, 1, none⟩) (by simp)).trans (show _ = some (Value.int .i64 0) by simp [go_sem])
  have z0 := (hb.frozen (p := ⟨w.heap.size + 1 + 1, 0, none⟩) (by simp)).trans (show _ = false by simp [go_sem])
  have z2 := (hb.frozen (p := ⟨w.heap.size + 1 + 1, 1, none⟩) (by simp)).trans (show _ = false by simp [go_sem])
  have HB1 := hide (show Below w.heap.size w w1 from ((((Below.refl w.heap.size w).alloc (Nat.le_refl _) _).alloc (by simp) _).alloc (by simp; omega) _).trans (hb.mono (by simp; omega)))
  clear hb
  go_wp2_with fail
  exact bodyPost_ret (v := .tuple #[.agg #[.int .i64 A, .int .i64 B], .int .i64 E]) (by simp [results, Tryd.results19, go_sem, c4, c5]) rfl
    ⟨rfl, by have := HB1.out; repeat' (first | exact this | refine Below.setCell ?_ ?_ _ | (simp; done) | (simp; omega))⟩

set_option maxHeartbeats 1000000 in
theorem comb1 (n1 d1 n2 d2 : Int) (w : World) (a1 : I64 n1) (a2 : I64 d1) (a3 : I64 n2) (a4 : I64 d2) :
    Calls Tryd.prog 19 #[.int .i64 1, .agg #[.int .i64 n1, .int .i64 d1], .agg #[.int .i64 n2, .int .i64 d2]] w fun e w' => e = .returned (.tuple #[.agg #[.int .i64 (cbN 1 n1 d1 n2 d2), .int .i64 (cbD 1 n1 d1 n2 d2)], .int .i64 (cbE 1 n1 d1 n2 d2)]) ∧ Below w.heap.size w w' := by
  have C := fun w => hide (fsub_any n1 d1 n2 d2 w a1 a2 a3 a4)
  clear a1 a2 a3 a4
  generalize cbN 1 n1 d1 n2 d2 = A at *
  generalize cbD 1 n1 d1 n2 d2 = B at *
  generalize cbE 1 n1 d1 n2 d2 = E at *
  go_enter Tryd.func19, Tryd.ntmps19
  go_wp2_with fail
  refine (C _).out.mono ?_
  rintro e w1 ⟨rfl, hb⟩
  have c4 := (hb.cell (p := ⟨w.heap.size + 1 + 1, 0, none⟩) (by simp)).trans (show _ = some (Value.int .i64 0) by simp [go_sem])
  have c5 := (hb.cell (p := ⟨w.heap.size + 1 + 1, 1, none⟩) (by simp)).trans (show _ = some (Value.int .i64 0) by simp [go_sem])
  have z0 := (hb.frozen (p := ⟨w.heap.size + 1 + 1, 0, none⟩) (by simp)).trans (show _ = false by simp [go_sem])
  have z2 := (hb.frozen (p := ⟨w.heap.size + 1 + 1, 1, none⟩) (by simp)).trans (show _ = false by simp [go_sem])
  have HB1 := hide (show Below w.heap.size w w1 from ((((Below.refl w.heap.size w).alloc (Nat.le_refl _) _).alloc (by simp) _).alloc (by simp; omega) _).trans (hb.mono (by simp; omega)))
  clear hb
  go_wp2_with fail
  exact bodyPost_ret (v := .tuple #[.agg #[.int .i64 A, .int .i64 B], .int .i64 E]) (by simp [results, Tryd.results19, go_sem, c4, c5]) rfl
    ⟨rfl, by have := HB1.out; repeat' (first | exact this | refine Below.setCell ?_ ?_ _ | (simp; done) | (simp; omega))⟩

set_option maxHeartbeats 1000000 in
theorem comb2 (n1 d1 n2 d2 : Int) (w : World) (a1 : I64 n1) (a2 : I64 d1) (a3 : I64 n2) (a4 : I64 d2) :
    Calls Tryd.prog 19 #[.int .i64 2, .agg #[.int .i64 n1, .int .i64 d1], .agg #[.int .i64 n2, .int .i64 d2]] w fun e w' => e = .returned (.tuple #[.agg #[.int .i64 (cbN 2 n1 d1 n2 d2), .int .i64 (cbD 2 n1 d1 n2 d2)], .int .i64 (cbE 2 n1 d1 n2 d2)]) ∧ Below w.heap.size w w' := by
  have C := fun w => hide (fmul_any n1 d1 n2 d2 w a1 a2 a3 a4)
  clear a1 a2 a3 a4
  generalize cbN 2 n1 d1 n2 d2 = A at *
  generalize cbD 2 n1 d1 n2 d2 = B at *
  generalize cbE 2 n1 d1 n2 d2 = E at *
  go_enter Tryd.func19, Tryd.ntmps19
  go_wp2_with fail
  refine (C _).out.mono ?_
  rintro e w1 ⟨rfl, hb⟩
  have c4 := (hb.cell (p := ⟨w.heap.size + 1 + 1, 0, none⟩) (by simp)).trans (show _ = some (Value.int .i64 0) by simp [go_sem])
  have c5 := (hb.cell (p := ⟨w.heap.size + 1 + 1, 1, none⟩) (by simp)).trans (show _ = some (Value.int .i64 0) by simp [go_sem])
  have z0 := (hb.frozen (p := ⟨w.heap.size + 1 + 1, 0, none⟩) (by simp)).trans (show _ = false by simp [go_sem])
  have z2 := (hb.frozen (p := ⟨w.heap.size + 1 + 1, 1, none⟩) (by simp)).trans (show _ = false by simp [go_sem])
  have HB1 := hide (show Below w.heap.size w w1 from ((((Below.refl w.heap.size w).alloc (Nat.le_refl _) _).alloc (by simp) _).alloc (by simp; omega) _).trans (hb.mono (by simp; omega)))
  clear hb
  go_wp2_with fail
  exact bodyPost_ret (v := .tuple #[.agg #[.int .i64 A, .int .i64 B], .int .i64 E]) (by simp [results, Tryd.results19, go_sem, c4, c5]) rfl
    ⟨rfl, by have := HB1.out; repeat' (first | exact this | refine Below.setCell ?_ ?_ _ | (simp; done) | (simp; omega))⟩

set_option maxHeartbeats 1000000 in
theorem comb3 (n1 d1 n2 d2 : Int) (w : World) (a1 : I64 n1) (a2 : I64 d1) (a3 : I64 n2) (a4 : I64 d2) :
    Calls Tryd.prog 19 #[.int .i64 3, .agg #[.int .i64 n1, .int .i64 d1], .agg #[.int .i64 n2, .int .i64 d2]] w fun e w' => e = .returned (.tuple #[.agg #[.int .i64 (cbN 3 n1 d1 n2 d2), .int .i64 (cbD 3 n1 d1 n2 d2)], .int .i64 (cbE 3 n1 d1 n2 d2)]) ∧ Below w.heap.size w w' := by
  have C := fun w => hide (fdiv_any n1 d1 n2 d2 w a1 a2 a3 a4)
  clear a1 a2 a3 a4
  generalize cbN 3 n1 d1 n2 d2 = A at *
  generalize cbD 3 n1 d1 n2 d2 = B at *
  generalize cbE 3 n1 d1 n2 d2 = E at *
  go_enter Tryd.func19, Tryd.ntmps19
  go_wp2_with fail
  refine (C _).out.mono ?_
  rintro e w1 ⟨rfl, hb⟩
  have c4 := (hb.cell (p := ⟨w.heap.size + 1 + 1, 0, none⟩) (by simp)).trans (show _ = some (Value.int .i64 0) by simp [go_sem])
  have c5 := (hb.cell (p := ⟨w.heap.size + 1 + 1, 1, none⟩) (by simp)).trans (show _ = some (Value.int .i64 0) by simp [go_sem])
  have z0 := (hb.frozen (p := ⟨w.heap.size + 1 + 1, 0, none⟩) (by simp)).trans (show _ = false by simp [go_sem])
  have z2 := (hb.frozen (p := ⟨w.heap.size + 1 + 1, 1, none⟩) (by simp)).trans (show _ = false by simp [go_sem])
  have HB1 := hide (show Below w.heap.size w w1 from ((((Below.refl w.heap.size w).alloc (Nat.le_refl _) _).alloc (by simp) _).alloc (by simp; omega) _).trans (hb.mono (by simp; omega)))
  clear hb
  go_wp2_with fail
  exact bodyPost_ret (v := .tuple #[.agg #[.int .i64 A, .int .i64 B], .int .i64 E]) (by simp [results, Tryd.results19, go_sem, c4, c5]) rfl
    ⟨rfl, by have := HB1.out; repeat' (first | exact this | refine Below.setCell ?_ ?_ _ | (simp; done) | (simp; omega))⟩
end Go.Proofs.YtmdgjgeblplhpaaDoor
