/-
  Contracts of cmp.Compare at int64, of fraction's and the reference's Compare, and of the statements' To and From at this translation. Conditions: the arguments fit their kinds.
-/
import Derived.Test.YtmdgjgeblplhpaaDoorFr6
namespace Go.Proofs.YtmdgjgeblplhpaaDoor
open Go.RowKit
set_option linter.unusedVariables false

theorem nan_any (x : Int) (w : World) : Calls Tryd.prog 46 #[.int .i64 x] w fun e w' => e = .returned (.bool false) ∧ w = w' := by
  go_enter Tryd.func46, Tryd.ntmps46
  go_wp2
  go_ret
  exact ⟨rfl, rfl⟩

/-- The sign of a comparison. -/
def cmpV (a b : Int) : Int := if a < b then -1 else if b < a then 1 else 0
theorem cmp_any (a b : Int) (w : World) : Calls Tryd.prog 38 #[.int .i64 a, .int .i64 b] w fun e w' => e = .returned (.int .i64 (cmpV a b)) ∧ w = w' := by
  have na := fun w => hide (nan_any a w)
  have nb := fun w => hide (nan_any b w)
  rcases Int.lt_trichotomy a b with h | h | h
  · have hv : cmpV a b = -1 := by simp [cmpV, h]
    rw [hv]
    clear hv
    go_enter Tryd.func38, Tryd.ntmps38
    go_wp2_with (first | (go_at_call_of 46 (Value.int .i64 a); refine (na _).out.mono ?_; rintro e w' ⟨rfl, rfl⟩) | (go_at_call_of 46 (Value.int .i64 b); refine (nb _).out.mono ?_; rintro e w' ⟨rfl, rfl⟩))
    go_ret
    exact ⟨rfl, rfl⟩
  · subst h
    have hv : cmpV a a = 0 := by simp [cmpV]
    rw [hv]
    clear hv nb
    have l0 : ¬ a < a := Int.lt_irrefl a
    go_enter Tryd.func38, Tryd.ntmps38
    go_wp2_with (go_at_call_of 46 (Value.int .i64 a); refine (na _).out.mono ?_; rintro e w' ⟨rfl, rfl⟩)
    go_ret
    exact ⟨rfl, rfl⟩
  · have h1 : ¬ a < b := by omega
    have hv : cmpV a b = 1 := by simp [cmpV, h, h1]
    rw [hv]
    clear hv
    go_enter Tryd.func38, Tryd.ntmps38
    go_wp2_with (first | (go_at_call_of 46 (Value.int .i64 a); refine (na _).out.mono ?_; rintro e w' ⟨rfl, rfl⟩) | (go_at_call_of 46 (Value.int .i64 b); refine (nb _).out.mono ?_; rintro e w' ⟨rfl, rfl⟩))
    go_ret
    exact ⟨rfl, rfl⟩

theorem compare_any (n1 d1 n2 d2 : Int) (w : World) (a1 : I64 n1) (a2 : I64 d1) (a3 : I64 n2) (a4 : I64 d2) :
    Calls Tryd.prog 21 #[.agg #[.int .i64 n1, .int .i64 d1], .agg #[.int .i64 n2, .int .i64 d2]] w fun e w' => e = .returned (.int .i64 (cpV n1 d1 n2 d2)) ∧ Below w.heap.size w w' := by
  have C := fun w => hide (both_any n1 d1 n2 d2 w a1 a2 a3 a4)
  clear a1 a2 a3 a4
  by_cases h : bothE n1 d1 n2 d2 = 0
  · obtain ⟨h1, h2⟩ := both_ok h
    obtain ⟨b1, b2, b3, b4, _⟩ := ck_ok h1
    obtain ⟨b5, b6, b7, b8, _⟩ := ck_ok h2
    have m1 := mul_bd b3 b4 (show -1000000000 ≤ d2 by omega) b6
    have m2 := mul_bd b7 b8 (show -1000000000 ≤ d1 by omega) b2
    have w1 : wrap64 (n1 * d2) = n1 * d2 := wrap_small (by omega) (by omega)
    have w2 : wrap64 (n2 * d1) = n2 * d1 := wrap_small (by omega) (by omega)
    have HV := hide (show cpV n1 d1 n2 d2 = cmpV (n1 * d2) (n2 * d1) by simp [cpV, h, cmpV])
    have CC := fun w => hide (cmp_any (n1 * d2) (n2 * d1) w)
    rw [h] at C
    generalize cpV n1 d1 n2 d2 = V at *
    clear h h1 h2 b1 b2 b3 b4 b5 b6 b7 b8 m1 m2
    go_enter Tryd.func21, Tryd.ntmps21
    go_wp2_with fail
    refine (C _).out.mono ?_
    rintro e w1 ⟨rfl, hb⟩
    have c0 := (hb.cell (p := ⟨w.heap.size, 0, none⟩) (by simp; omega)).trans (show _ = some (Value.int .i64 n1) by simp [go_sem])
    have c1 := (hb.cell (p := ⟨w.heap.size, 1, none⟩) (by simp; omega)).trans (show _ = some (Value.int .i64 d1) by simp [go_sem])
    have c2 := (hb.cell (p := ⟨w.heap.size + 1, 0, none⟩) (by simp)).trans (show _ = some (Value.int .i64 n2) by simp [go_sem])
    have c3 := (hb.cell (p := ⟨w.heap.size + 1, 1, none⟩) (by simp)).trans (show _ = some (Value.int .i64 d2) by simp [go_sem])
    have HB1 := hide (show Below w.heap.size w w1 from (((Below.refl w.heap.size w).alloc (Nat.le_refl _) _).alloc (by simp) _).trans (hb.mono (by simp; omega)))
    clear hb
    go_wp2_with fail
    refine (CC _).out.mono ?_
    rintro e w2 ⟨rfl, rfl⟩
    go_wp2_with fail
    go_ret
    exact ⟨ret_i HV.out.symm, HB1.out⟩
  · have HV := hide (show cpV n1 d1 n2 d2 = 0 by simp [cpV, h])
    generalize bothE n1 d1 n2 d2 = X at *
    have e1 : (X == 0) = false := by simpa using h
    have e2 : (X != 0) = true := by simpa using h
    generalize cpV n1 d1 n2 d2 = V at *
    clear h
    go_enter Tryd.func21, Tryd.ntmps21
    go_wp2_with fail
    refine (C _).out.mono ?_
    rintro e w1 ⟨rfl, hb⟩
    have HB1 := hide (show Below w.heap.size w w1 from (((Below.refl w.heap.size w).alloc (Nat.le_refl _) _).alloc (by simp) _).trans (hb.mono (by simp; omega)))
    clear hb
    go_wp2_with fail
    go_ret
    exact ⟨ret_i HV.out.symm, HB1.out⟩

theorem rcompare_any (n1 d1 n2 d2 : Int) (w : World) (a1 : I64 n1) (a2 : I64 d1) (a3 : I64 n2) (a4 : I64 d2) :
    Calls Tryd.prog 22 #[.agg #[.int .i64 n1, .int .i64 d1], .agg #[.int .i64 n2, .int .i64 d2]] w fun e w' => e = .returned (.int .i64 (cpV n1 d1 n2 d2)) ∧ Below w.heap.size w w' := by
  have C1 := fun w => hide (rcheck_any n1 d1 w a1.1 a1.2 a2.1 a2.2)
  have C2 := fun w => hide (rcheck_any n2 d2 w a3.1 a3.2 a4.1 a4.2)
  clear a1 a2 a3 a4
  by_cases g1 : ckE n1 d1 = 0
  · by_cases g2 : ckE n2 d2 = 0
    · obtain ⟨b1, b2, b3, b4, _⟩ := ck_ok g1
      obtain ⟨b5, b6, b7, b8, _⟩ := ck_ok g2
      have m1 := mul_bd b3 b4 (show -1000000000 ≤ d2 by omega) b6
      have m2 := mul_bd b7 b8 (show -1000000000 ≤ d1 by omega) b2
      have w1 : wrap64 (n1 * d2) = n1 * d2 := wrap_small (by omega) (by omega)
      have w2 : wrap64 (n2 * d1) = n2 * d1 := wrap_small (by omega) (by omega)
      have HV := hide (show cpV n1 d1 n2 d2 = cmpV (n1 * d2) (n2 * d1) by simp [cpV, both_of g1 g2, cmpV])
      rw [g1] at C1
      rw [g2] at C2
      generalize cpV n1 d1 n2 d2 = V at *
      clear g1 g2 b1 b2 b3 b4 b5 b6 b7 b8 m1 m2
      have HC : ∀ a b : Int, Hid (cmpV a b = if a < b then -1 else if b < a then 1 else 0) := fun _ _ => hide rfl
      obtain ⟨P, hP⟩ : ∃ P, P = n1 * d2 := ⟨_, rfl⟩
      obtain ⟨Q, hQ⟩ : ∃ Q, Q = n2 * d1 := ⟨_, rfl⟩
      rw [← hP] at w1 HV
      rw [← hQ] at w2 HV
      have k1 : wrap64 (n1 * d2) = P := by rw [← hP]; exact w1
      have k2 : wrap64 (n2 * d1) = Q := by rw [← hQ]; exact w2
      clear hP hQ w1 w2
      rcases Int.lt_trichotomy P Q with h | h | h
      · have HW := hide (show V = -1 by rw [HV.out, (HC _ _).out, if_pos h])
        clear HV HC
        go_enter Tryd.func22, Tryd.ntmps22
        go_wp2_with fail
        refine (C1 _).out.mono ?_
        rintro e w1 ⟨rfl, hb⟩
        have c0 := (hb.cell (p := ⟨w.heap.size, 0, none⟩) (by simp; omega)).trans (show _ = some (Value.int .i64 n1) by simp [go_sem])
        have c1 := (hb.cell (p := ⟨w.heap.size, 1, none⟩) (by simp; omega)).trans (show _ = some (Value.int .i64 d1) by simp [go_sem])
        have c2 := (hb.cell (p := ⟨w.heap.size + 1, 0, none⟩) (by simp)).trans (show _ = some (Value.int .i64 n2) by simp [go_sem])
        have c3 := (hb.cell (p := ⟨w.heap.size + 1, 1, none⟩) (by simp)).trans (show _ = some (Value.int .i64 d2) by simp [go_sem])
        have HB1 := hide (show Below w.heap.size w w1 from (((Below.refl w.heap.size w).alloc (Nat.le_refl _) _).alloc (by simp) _).trans (hb.mono (by simp; omega)))
        have sz1 : w.heap.size + 2 ≤ w1.heap.size := by have := hb.size; simp at this; omega
        clear hb
        go_wp2_with fail
        refine (C2 _).out.mono ?_
        rintro e w2 ⟨rfl, hb⟩
        have c0 := (hb.cell (p := ⟨w.heap.size, 0, none⟩) (by simp; omega)).trans c0
        have c1 := (hb.cell (p := ⟨w.heap.size, 1, none⟩) (by simp; omega)).trans c1
        have c2 := (hb.cell (p := ⟨w.heap.size + 1, 0, none⟩) (by simp; omega)).trans c2
        have c3 := (hb.cell (p := ⟨w.heap.size + 1, 1, none⟩) (by simp; omega)).trans c3
        have HB2 := hide (HB1.out.trans (hb.mono HB1.out.size))
        clear hb
        go_wp2_with fail
        go_quiet (fail)
        go_wp2_with fail
        go_ret
        exact ⟨ret_i HW.out.symm, below_draw HB2.out _⟩
      · have HW := hide (show V = 0 by rw [HV.out, (HC _ _).out, h]; simp)
        clear HV HC
        have l0 : ¬ P < Q := by omega
        have l1 : ¬ Q < P := by omega
        clear h
        go_enter Tryd.func22, Tryd.ntmps22
        go_wp2_with fail
        refine (C1 _).out.mono ?_
        rintro e w1 ⟨rfl, hb⟩
        have c0 := (hb.cell (p := ⟨w.heap.size, 0, none⟩) (by simp; omega)).trans (show _ = some (Value.int .i64 n1) by simp [go_sem])
        have c1 := (hb.cell (p := ⟨w.heap.size, 1, none⟩) (by simp; omega)).trans (show _ = some (Value.int .i64 d1) by simp [go_sem])
        have c2 := (hb.cell (p := ⟨w.heap.size + 1, 0, none⟩) (by simp)).trans (show _ = some (Value.int .i64 n2) by simp [go_sem])
        have c3 := (hb.cell (p := ⟨w.heap.size + 1, 1, none⟩) (by simp)).trans (show _ = some (Value.int .i64 d2) by simp [go_sem])
        have HB1 := hide (show Below w.heap.size w w1 from (((Below.refl w.heap.size w).alloc (Nat.le_refl _) _).alloc (by simp) _).trans (hb.mono (by simp; omega)))
        have sz1 : w.heap.size + 2 ≤ w1.heap.size := by have := hb.size; simp at this; omega
        clear hb
        go_wp2_with fail
        refine (C2 _).out.mono ?_
        rintro e w2 ⟨rfl, hb⟩
        have c0 := (hb.cell (p := ⟨w.heap.size, 0, none⟩) (by simp; omega)).trans c0
        have c1 := (hb.cell (p := ⟨w.heap.size, 1, none⟩) (by simp; omega)).trans c1
        have c2 := (hb.cell (p := ⟨w.heap.size + 1, 0, none⟩) (by simp; omega)).trans c2
        have c3 := (hb.cell (p := ⟨w.heap.size + 1, 1, none⟩) (by simp; omega)).trans c3
        have HB2 := hide (HB1.out.trans (hb.mono HB1.out.size))
        clear hb
        go_wp2_with fail
        go_quiet (fail)
        go_wp2_with fail
        go_ret
        exact ⟨ret_i HW.out.symm, below_draw HB2.out _⟩
      · have HW := hide (show V = 1 by rw [HV.out, (HC _ _).out, if_neg (by omega), if_pos h])
        clear HV HC
        have l0 : ¬ P < Q := by omega
        go_enter Tryd.func22, Tryd.ntmps22
        go_wp2_with fail
        refine (C1 _).out.mono ?_
        rintro e w1 ⟨rfl, hb⟩
        have c0 := (hb.cell (p := ⟨w.heap.size, 0, none⟩) (by simp; omega)).trans (show _ = some (Value.int .i64 n1) by simp [go_sem])
        have c1 := (hb.cell (p := ⟨w.heap.size, 1, none⟩) (by simp; omega)).trans (show _ = some (Value.int .i64 d1) by simp [go_sem])
        have c2 := (hb.cell (p := ⟨w.heap.size + 1, 0, none⟩) (by simp)).trans (show _ = some (Value.int .i64 n2) by simp [go_sem])
        have c3 := (hb.cell (p := ⟨w.heap.size + 1, 1, none⟩) (by simp)).trans (show _ = some (Value.int .i64 d2) by simp [go_sem])
        have HB1 := hide (show Below w.heap.size w w1 from (((Below.refl w.heap.size w).alloc (Nat.le_refl _) _).alloc (by simp) _).trans (hb.mono (by simp; omega)))
        have sz1 : w.heap.size + 2 ≤ w1.heap.size := by have := hb.size; simp at this; omega
        clear hb
        go_wp2_with fail
        refine (C2 _).out.mono ?_
        rintro e w2 ⟨rfl, hb⟩
        have c0 := (hb.cell (p := ⟨w.heap.size, 0, none⟩) (by simp; omega)).trans c0
        have c1 := (hb.cell (p := ⟨w.heap.size, 1, none⟩) (by simp; omega)).trans c1
        have c2 := (hb.cell (p := ⟨w.heap.size + 1, 0, none⟩) (by simp; omega)).trans c2
        have c3 := (hb.cell (p := ⟨w.heap.size + 1, 1, none⟩) (by simp; omega)).trans c3
        have HB2 := hide (HB1.out.trans (hb.mono HB1.out.size))
        clear hb
        go_wp2_with fail
        go_quiet (fail)
        go_wp2_with fail
        go_ret
        exact ⟨ret_i HW.out.symm, below_draw HB2.out _⟩
    · have HV := hide (show cpV n1 d1 n2 d2 = 0 by simp [cpV, bothE, g1, g2])
      rw [g1] at C1
      generalize ckE n2 d2 = X at *
      have e1 : (X == 0) = false := by simpa using g2
      have e2 : (X != 0) = true := by simpa using g2
      generalize cpV n1 d1 n2 d2 = V at *
      clear g1 g2
      go_enter Tryd.func22, Tryd.ntmps22
      go_wp2_with fail
      refine (C1 _).out.mono ?_
      rintro e w1 ⟨rfl, hb⟩
      have c2 := (hb.cell (p := ⟨w.heap.size + 1, 0, none⟩) (by simp)).trans (show _ = some (Value.int .i64 n2) by simp [go_sem])
      have c3 := (hb.cell (p := ⟨w.heap.size + 1, 1, none⟩) (by simp)).trans (show _ = some (Value.int .i64 d2) by simp [go_sem])
      have HB1 := hide (show Below w.heap.size w w1 from (((Below.refl w.heap.size w).alloc (Nat.le_refl _) _).alloc (by simp) _).trans (hb.mono (by simp; omega)))
      clear hb
      go_wp2_with fail
      refine (C2 _).out.mono ?_
      rintro e w2 ⟨rfl, hb⟩
      have HB2 := hide (HB1.out.trans (hb.mono HB1.out.size))
      clear hb
      go_wp2_with fail
      go_ret
      exact ⟨ret_i HV.out.symm, HB2.out⟩
  · have HV := hide (show cpV n1 d1 n2 d2 = 0 by simp [cpV, bothE, g1])
    generalize ckE n1 d1 = X at *
    have e1 : (X == 0) = false := by simpa using g1
    have e2 : (X != 0) = true := by simpa using g1
    generalize cpV n1 d1 n2 d2 = V at *
    clear g1
    go_enter Tryd.func22, Tryd.ntmps22
    go_wp2_with fail
    refine (C1 _).out.mono ?_
    rintro e w1 ⟨rfl, hb⟩
    have HB1 := hide (show Below w.heap.size w w1 from (((Below.refl w.heap.size w).alloc (Nat.le_refl _) _).alloc (by simp) _).trans (hb.mono (by simp; omega)))
    clear hb
    go_wp2_with fail
    go_ret
    exact ⟨ret_i HV.out.symm, HB1.out⟩

theorem to_any (n d : Int) (w : World) : Calls Tryd.prog 14 #[.agg #[.int .i64 n, .int .i64 d]] w fun e w' => e = .returned (.agg #[.int .i64 n, .int .i64 d]) ∧ Below w.heap.size w w' := by
  go_enter Tryd.func14, Tryd.ntmps14
  go_wp2
  exact bodyPost_ret (v := .agg #[.int .i64 n, .int .i64 d]) (by simp [results, Tryd.results14, go_sem]) rfl
    ⟨rfl, by repeat' (first | exact Below.refl _ _ | exact Nat.le_refl _ | refine Below.setCell ?_ ?_ _ | refine below_draw ?_ _ | refine Below.alloc ?_ ?_ _ | (simp; done) | (simp; omega))⟩
theorem from_any (n d : Int) (w : World) : Calls Tryd.prog 17 #[.agg #[.int .i64 n, .int .i64 d]] w fun e w' => e = .returned (.agg #[.int .i64 n, .int .i64 d]) ∧ Below w.heap.size w w' := by
  go_enter Tryd.func17, Tryd.ntmps17
  go_wp2
  exact bodyPost_ret (v := .agg #[.int .i64 n, .int .i64 d]) (by simp [results, Tryd.results17, go_sem]) rfl
    ⟨rfl, by repeat' (first | exact Below.refl _ _ | exact Nat.le_refl _ | refine Below.setCell ?_ ?_ _ | refine below_draw ?_ _ | refine Below.alloc ?_ ?_ _ | (simp; done) | (simp; omega))⟩
end Go.Proofs.YtmdgjgeblplhpaaDoor
