/-
  The reference's Compare at this translation; plain arithmetic of ValuationMonotone. Conditions: the arguments fit their kinds.
-/
import Derived.Test.YthgeeobbenjioabV7
namespace Go.Proofs.Ythgeeobbenjioab
open Go.RowKit
set_option linter.unusedVariables false

theorem mul_bd {a b : Int} (a1 : -1000000000 ≤ a) (a2 : a ≤ 1000000000) (b1 : -1000000000 ≤ b) (b2 : b ≤ 1000000000) : -1000000000000000000 ≤ a * b ∧ a * b ≤ 1000000000000000000 := by
  have m := Nat.mul_le_mul (show a.natAbs ≤ 1000000000 by omega) (show b.natAbs ≤ 1000000000 by omega)
  rw [← Int.natAbs_mul] at m
  omega
/-- The sign of a comparison. -/
def cmpV (a b : Int) : Int := if a < b then -1 else if b < a then 1 else 0
theorem rcompare_any (n1 d1 n2 d2 : Int) (w : World) (a1 : I64 n1) (a2 : I64 d1) (a3 : I64 n2) (a4 : I64 d2) :
    Calls Try.prog 11 #[.agg #[.int .i64 n1, .int .i64 d1], .agg #[.int .i64 n2, .int .i64 d2]] w fun e w' => e = .returned (.int .i64 (cpV n1 d1 n2 d2)) ∧ Below w.heap.size w w' := by
  have C1 := fun w => hide (rcheck_any n1 d1 w a1.1 a1.2 a2.1 a2.2)
  have C2 := fun w => hide (rcheck_any n2 d2 w a3.1 a3.2 a4.1 a4.2)
  clear a1 a2 a3 a4
  by_cases g1 : ckE n1 d1 = 0
  · by_cases g2 : ckE n2 d2 = 0
    · obtain ⟨b1, b2, b3, b4, _⟩ := ck_ok g1
      obtain ⟨b5, b6, b7, b8, _⟩ := ck_ok g2
      have m1 := mul_bd b3 b4 (show -1000000000 ≤ d2 by omega) b6
      have m2 := mul_bd b7 b8 (show -1000000000 ≤ d1 by omega) b2
      have w1 : wrap64 (n1 * d2) = n1 * d2 := wrap_sm (by omega) (by omega)
      have w2 : wrap64 (n2 * d1) = n2 * d1 := wrap_sm (by omega) (by omega)
      have HV := hide (show cpV n1 d1 n2 d2 = cmpV (n1 * d2) (n2 * d1) by simp [cpV, both_of g1 g2, cmpV])
      rw [g1] at C1
      rw [g2] at C2
      generalize cpV n1 d1 n2 d2 = V at *
      clear g1 g2 b1 b2 b3 b4 b5 b6 b7 b8 m1 m2
      have HC : ∀ a b : Int, Hid (cmpV a b = if a < b then -1 else if b < a then 1 else 0) := fun _ _ => hide rfl
      obtain ⟨P, hP⟩ : ∃ P, P = n1 * d2 := ⟨_, rfl⟩
      obtain ⟨Q, hQ⟩ : ∃ Q, Q = n2 * d1 := ⟨_, rfl⟩
      rw [← hP] at w1 HV
      rw [← hQ] at w2 HV
      have k1 : wrap64 (n1 * d2) = P := by rw [← hP]; exact w1
      have k2 : wrap64 (n2 * d1) = Q := by rw [← hQ]; exact w2
      clear hP hQ w1 w2
      rcases Int.lt_trichotomy P Q with h | h | h
      · have HW := hide (show V = -1 by rw [HV.out, (HC _ _).out, if_pos h])
        clear HV HC
        go_enter Try.func11, Try.ntmps11
        go_wp2_with fail
        refine (C1 _).out.mono ?_
        rintro e w1 ⟨rfl, hb⟩
        have c0 := (hb.cell (p := ⟨w.heap.size, 0, none⟩) (by simp; omega)).trans (show _ = some (Value.int .i64 n1) by simp [go_sem])
        have c1 := (hb.cell (p := ⟨w.heap.size, 1, none⟩) (by simp; omega)).trans (show _ = some (Value.int .i64 d1) by simp [go_sem])
        have c2 := (hb.cell (p := ⟨w.heap.size + 1, 0, none⟩) (by simp)).trans (show _ = some (Value.int .i64 n2) by simp [go_sem])
        have c3 := (hb.cell (p := ⟨w.heap.size + 1, 1, none⟩) (by simp)).trans (show _ = some (Value.int .i64 d2) by simp [go_sem])
        have HB1 := hide (show Below w.heap.size w w1 from (((Below.refl w.heap.size w).alloc (Nat.le_refl _) _).alloc (by simp) _).trans (hb.mono (by simp; omega)))
        have sz1 : w.heap.size + 2 ≤ w1.heap.size := by have := hb.size; simp at this; omega
        clear hb
        go_wp2_with fail
        refine (C2 _).out.mono ?_
        rintro e w2 ⟨rfl, hb⟩
        have c0 := (hb.cell (p := ⟨w.heap.size, 0, none⟩) (by simp; omega)).trans c0
        have c1 := (hb.cell (p := ⟨w.heap.size, 1, none⟩) (by simp; omega)).trans c1
        have c2 := (hb.cell (p := ⟨w.heap.size + 1, 0, none⟩) (by simp; omega)).trans c2
        have c3 := (hb.cell (p := ⟨w.heap.size + 1, 1, none⟩) (by simp; omega)).trans c3
        have HB2 := hide (HB1.out.trans (hb.mono HB1.out.size))
        clear hb
        go_wp2_with fail
        go_quiet (fail)
        go_wp2_with fail
        go_ret
        exact ⟨ret_i HW.out.symm, below_drewN HB2.out _⟩
      · have HW := hide (show V = 0 by rw [HV.out, (HC _ _).out, h]; simp)
        clear HV HC
        have l0 : ¬ P < Q := by omega
        have l1 : ¬ Q < P := by omega
        clear h
        go_enter Try.func11, Try.ntmps11
        go_wp2_with fail
        refine (C1 _).out.mono ?_
        rintro e w1 ⟨rfl, hb⟩
        have c0 := (hb.cell (p := ⟨w.heap.size, 0, none⟩) (by simp; omega)).trans (show _ = some (Value.int .i64 n1) by simp [go_sem])
        have c1 := (hb.cell (p := ⟨w.heap.size, 1, none⟩) (by simp; omega)).trans (show _ = some (Value.int .i64 d1) by simp [go_sem])
        have c2 := (hb.cell (p := ⟨w.heap.size + 1, 0, none⟩) (by simp)).trans (show _ = some (Value.int .i64 n2) by simp [go_sem])
        have c3 := (hb.cell (p := ⟨w.heap.size + 1, 1, none⟩) (by simp)).trans (show _ = some (Value.int .i64 d2) by simp [go_sem])
        have HB1 := hide (show Below w.heap.size w w1 from (((Below.refl w.heap.size w).alloc (Nat.le_refl _) _).alloc (by simp) _).trans (hb.mono (by simp; omega)))
        have sz1 : w.heap.size + 2 ≤ w1.heap.size := by have := hb.size; simp at this; omega
        clear hb
        go_wp2_with fail
        refine (C2 _).out.mono ?_
        rintro e w2 ⟨rfl, hb⟩
        have c0 := (hb.cell (p := ⟨w.heap.size, 0, none⟩) (by simp; omega)).trans c0
        have c1 := (hb.cell (p := ⟨w.heap.size, 1, none⟩) (by simp; omega)).trans c1
        have c2 := (hb.cell (p := ⟨w.heap.size + 1, 0, none⟩) (by simp; omega)).trans c2
        have c3 := (hb.cell (p := ⟨w.heap.size + 1, 1, none⟩) (by simp; omega)).trans c3
        have HB2 := hide (HB1.out.trans (hb.mono HB1.out.size))
        clear hb
        go_wp2_with fail
        go_quiet (fail)
        go_wp2_with fail
        go_ret
        exact ⟨ret_i HW.out.symm, below_drewN HB2.out _⟩
      · have HW := hide (show V = 1 by rw [HV.out, (HC _ _).out, if_neg (by omega), if_pos h])
        clear HV HC
        have l0 : ¬ P < Q := by omega
        go_enter Try.func11, Try.ntmps11
        go_wp2_with fail
        refine (C1 _).out.mono ?_
        rintro e w1 ⟨rfl, hb⟩
        have c0 := (hb.cell (p := ⟨w.heap.size, 0, none⟩) (by simp; omega)).trans (show _ = some (Value.int .i64 n1) by simp [go_sem])
        have c1 := (hb.cell (p := ⟨w.heap.size, 1, none⟩) (by simp; omega)).trans (show _ = some (Value.int .i64 d1) by simp [go_sem])
        have c2 := (hb.cell (p := ⟨w.heap.size + 1, 0, none⟩) (by simp)).trans (show _ = some (Value.int .i64 n2) by simp [go_sem])
        have c3 := (hb.cell (p := ⟨w.heap.size + 1, 1, none⟩) (by simp)).trans (show _ = some (Value.int .i64 d2) by simp [go_sem])
        have HB1 := hide (show Below w.heap.size w w1 from (((Below.refl w.heap.size w).alloc (Nat.le_refl _) _).alloc (by simp) _).trans (hb.mono (by simp; omega)))
        have sz1 : w.heap.size + 2 ≤ w1.heap.size := by have := hb.size; simp at this; omega
        clear hb
        go_wp2_with fail
        refine (C2 _).out.mono ?_
        rintro e w2 ⟨rfl, hb⟩
        have c0 := (hb.cell (p := ⟨w.heap.size, 0, none⟩) (by simp; omega)).trans c0
        have c1 := (hb.cell (p := ⟨w.heap.size, 1, none⟩) (by simp; omega)).trans c1
        have c2 := (hb.cell (p := ⟨w.heap.size + 1, 0, none⟩) (by simp; omega)).trans c2
        have c3 := (hb.cell (p := ⟨w.heap.size + 1, 1, none⟩) (by simp; omega)).trans c3
        have HB2 := hide (HB1.out.trans (hb.mono HB1.out.size))
        clear hb
        go_wp2_with fail
        go_quiet (fail)
        go_wp2_with fail
        go_ret
        exact ⟨ret_i HW.out.symm, below_drewN HB2.out _⟩
    · have HV := hide (show cpV n1 d1 n2 d2 = 0 by simp [cpV, bothE, g1, g2])
      rw [g1] at C1
      generalize ckE n2 d2 = X at *
      have e1 : (X == 0) = false := by simpa using g2
      have e2 : (X != 0) = true := by simpa using g2
      generalize cpV n1 d1 n2 d2 = V at *
      clear g1 g2
      go_enter Try.func11, Try.ntmps11
      go_wp2_with fail
      refine (C1 _).out.mono ?_
      rintro e w1 ⟨rfl, hb⟩
      have c2 := (hb.cell (p := ⟨w.heap.size + 1, 0, none⟩) (by simp)).trans (show _ = some (Value.int .i64 n2) by simp [go_sem])
      have c3 := (hb.cell (p := ⟨w.heap.size + 1, 1, none⟩) (by simp)).trans (show _ = some (Value.int .i64 d2) by simp [go_sem])
      have HB1 := hide (show Below w.heap.size w w1 from (((Below.refl w.heap.size w).alloc (Nat.le_refl _) _).alloc (by simp) _).trans (hb.mono (by simp; omega)))
      clear hb
      go_wp2_with fail
      refine (C2 _).out.mono ?_
      rintro e w2 ⟨rfl, hb⟩
      have HB2 := hide (HB1.out.trans (hb.mono HB1.out.size))
      clear hb
      go_wp2_with fail
      go_ret
      exact ⟨ret_i HV.out.symm, HB2.out⟩
  · have HV := hide (show cpV n1 d1 n2 d2 = 0 by simp [cpV, bothE, g1])
    generalize ckE n1 d1 = X at *
    have e1 : (X == 0) = false := by simpa using g1
    have e2 : (X != 0) = true := by simpa using g1
    generalize cpV n1 d1 n2 d2 = V at *
    clear g1
    go_enter Try.func11, Try.ntmps11
    go_wp2_with fail
    refine (C1 _).out.mono ?_
    rintro e w1 ⟨rfl, hb⟩
    have HB1 := hide (show Below w.heap.size w w1 from (((Below.refl w.heap.size w).alloc (Nat.le_refl _) _).alloc (by simp) _).trans (hb.mono (by simp; omega)))
    clear hb
    go_wp2_with fail
    go_ret
    exact ⟨ret_i HV.out.symm, HB1.out⟩


theorem vQ_q {q q2 p n d : Int} (hd : 0 < d) (hD : 0 ≤ p * (d - n)) (h : q ≤ q2) : vQ q p n d ≤ vQ q2 p n d := by
  unfold vQ
  exact Int.ediv_le_ediv hd (Int.mul_le_mul_of_nonneg_right h hD)
theorem vQ_p {q p p2 n d : Int} (hd : 0 < d) (hq : 0 ≤ q) (hn : n ≤ d) (h : p ≤ p2) : vQ q p n d ≤ vQ q p2 n d := by
  unfold vQ
  exact Int.ediv_le_ediv hd (Int.mul_le_mul_of_nonneg_left (Int.mul_le_mul_of_nonneg_right h (by omega)) hq)
/-- A greater haircut leaves less. -/
theorem vQ_h {q p n d n2 d2 : Int} (hd : 0 < d) (hd2 : 0 < d2) (hq : 0 ≤ q) (hp : 0 ≤ p) (h : n * d2 ≤ n2 * d) : vQ q p n2 d2 ≤ vQ q p n d := by
  unfold vQ
  rw [Int.le_ediv_iff_mul_le hd]
  have e := Int.ediv_mul_le (q * (p * (d2 - n2))) (show d2 ≠ 0 by omega)
  generalize q * (p * (d2 - n2)) / d2 = k at *
  have hm : q * p * ((d2 - n2) * d) ≤ q * p * ((d - n) * d2) := Int.mul_le_mul_of_nonneg_left (by grind) (Int.mul_nonneg hq hp)
  have e2 : k * d2 * d ≤ q * (p * (d2 - n2)) * d := Int.mul_le_mul_of_nonneg_right e (by omega)
  apply Classical.byContradiction
  intro c
  have c2 := Int.mul_lt_mul_of_pos_right (Int.not_le.1 c) hd2
  have r1 : q * (p * (d2 - n2)) * d = q * p * ((d2 - n2) * d) := by grind
  have r2 : q * (p * (d - n)) * d2 = q * p * ((d - n) * d2) := by grind
  have r3 : k * d * d2 = k * d2 * d := by grind
  omega
theorem vQ_add {q q2 p n d : Int} (hd : 0 < d) : vQ (q + q2) p n d = vQ q p n d + vQ q2 p n d ∨ vQ (q + q2) p n d = vQ q p n d + vQ q2 p n d + 1 := by
  unfold vQ
  rw [Int.add_mul]
  generalize q * (p * (d - n)) = x
  generalize q2 * (p * (d - n)) = y
  have e1 := Int.mul_ediv_add_emod x d
  have e2 := Int.mul_ediv_add_emod y d
  have b1 := Int.emod_nonneg x (show d ≠ 0 by omega)
  have b2 := Int.emod_lt_of_pos x hd
  have b3 := Int.emod_nonneg y (show d ≠ 0 by omega)
  have b4 := Int.emod_lt_of_pos y hd
  generalize x / d = a at *
  generalize y / d = b at *
  generalize x % d = r at *
  generalize y % d = s at *
  by_cases h : r + s < d
  · left
    have : x + y = d * (a + b) + (r + s) := by rw [Int.mul_add]; omega
    rw [this, Int.mul_add_ediv_left _ _ (by omega), Int.ediv_eq_zero_of_lt (by omega) h]; omega
  · right
    have : x + y = d * (a + b + 1) + (r + s - d) := by rw [Int.mul_add, Int.mul_add, Int.mul_one]; omega
    rw [this, Int.mul_add_ediv_left _ _ (by omega), Int.ediv_eq_zero_of_lt (by omega) (by omega)]; omega

theorem vE_ok {q p n d : Int} (h : vE q p n d = 0) : inV q p n d ∧ vV q p n d = vQ q p n d ∧ 0 ≤ vQ q p n d ∧ vQ q p n d ≤ 1000000000000000 := by
  have hv : vV q p n d = vQ q p n d := by unfold vV; rw [if_pos h]
  unfold vE at h
  split at h
  · rename_i hi
    split at h
    · refine ⟨hi, hv, ?_, by assumption⟩
      obtain ⟨⟨h1, h2⟩, ⟨h3, h4⟩, ck, h5, h6⟩ := hi
      unfold vQ
      exact Int.ediv_nonneg (Int.mul_nonneg h1 (Int.mul_nonneg (by omega) (by omega))) (by have := ck_ok ck; omega)
    · omega
  · omega

/-- What Monotone asks, where the first value is accepted. -/
structure Mon (q q2 p p2 n d n2 d2 : Int) : Prop where
  qq : vE q2 p n d = 0 → (q ≤ q2 → vV q p n d ≤ vV q2 p n d) ∧ (q2 ≤ q → vV q2 p n d ≤ vV q p n d)
  pp : vE q p2 n d = 0 → (p ≤ p2 → vV q p n d ≤ vV q p2 n d) ∧ (p2 ≤ p → vV q p2 n d ≤ vV q p n d)
  hh : vE q p n2 d2 = 0 → (cpV n d n2 d2 ≤ 0 → vV q p n2 d2 ≤ vV q p n d) ∧ (0 ≤ cpV n d n2 d2 → vV q p n d ≤ vV q p n2 d2)
  sum : vE q2 p n d = 0 → vE (q + q2) p n d = 0 → vV (q + q2) p n d = vV q p n d + vV q2 p n d ∨ vV (q + q2) p n d = vV q p n d + vV q2 p n d + 1
  b1 : 0 ≤ q
  b2 : q ≤ 1000000000000000
  b3 : 0 ≤ vV q p n d
  b4 : vV q p n d ≤ 1000000000000000
  b5 : vE q2 p n d = 0 → 0 ≤ vV q2 p n d ∧ vV q2 p n d ≤ 1000000000000000

theorem mon_of {q q2 p p2 n d n2 d2 : Int} (h : vE q p n d = 0) : Mon q q2 p p2 n d n2 d2 := by
  obtain ⟨hi, hv, hb1, hb2⟩ := vE_ok h
  obtain ⟨⟨q0, q1⟩, ⟨p0, p1⟩, ck, n0, n1⟩ := id hi
  obtain ⟨d0, d1, _, _, _⟩ := ck_ok ck
  have hD : 0 ≤ p * (d - n) := Int.mul_nonneg (by omega) (by omega)
  refine ⟨fun g => ?_, fun g => ?_, fun g => ?_, fun g1 g2 => ?_, q0, q1, by omega, by omega, fun g => ?_⟩
  · obtain ⟨_, e, _, _⟩ := vE_ok g
    rw [hv, e]
    exact ⟨vQ_q (by omega) hD, vQ_q (by omega) hD⟩
  · obtain ⟨_, e, _, _⟩ := vE_ok g
    rw [hv, e]
    exact ⟨vQ_p (by omega) q0 n1, vQ_p (by omega) q0 n1⟩
  · obtain ⟨⟨_, _, ck2, _, _⟩, e, _, _⟩ := vE_ok g
    obtain ⟨d3, d4, _, _, _⟩ := ck_ok ck2
    rw [hv, e]
    unfold cpV
    rw [if_pos (both_of ck ck2)]
    refine ⟨fun c => vQ_h (by omega) (by omega) q0 (by omega) ?_, fun c => vQ_h (by omega) (by omega) q0 (by omega) ?_⟩
    · split at c
      · omega
      · split at c <;> omega
    · split at c
      · omega
      · split at c <;> omega
  · obtain ⟨_, e, _, _⟩ := vE_ok g1
    obtain ⟨_, e2, _, _⟩ := vE_ok g2
    rw [hv, e, e2]
    exact vQ_add (by omega)
  · obtain ⟨_, e, _, _⟩ := vE_ok g
    omega
end Go.Proofs.Ythgeeobbenjioab
