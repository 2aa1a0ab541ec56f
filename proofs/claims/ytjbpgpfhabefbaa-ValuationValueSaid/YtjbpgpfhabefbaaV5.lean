/-
  Contract of valuation's Needed at this translation. Conditions: the arguments fit their kinds.
-/
import Derived.Test.YtjbpgpfhabefbaaV4
namespace Go.Proofs.Ytjbpgpfhabefbaa
open Go.RowKit
set_option linter.unusedVariables false

theorem wrap_sm {a : Int} (h1 : -4000000000000000000 ≤ a) (h2 : a ≤ 4000000000000000000) : wrap64 a = a := by unfold wrap64; omega
theorem need_no (a p l n d : Int) (w : World) (hn : I64 n) (hd : I64 d) (h : ¬ inN a p l n d) :
    Calls Try.prog 15 #[.int .i64 a, .int .i64 p, .int .i64 l, .agg #[.int .i64 n, .int .i64 d]] w fun e w' => e = .returned (.tuple #[.int .i64 (nV a p l n d), .int .i64 (nE a p l n d)]) ∧ Below w.heap.size w w' := by
  have C0 := fun w => hide (isam_any a w)
  have C1 := fun w => hide (isam_any l w)
  have C2 := fun w => hide (ispr_any p w)
  have C3 := fun w => hide (hc_any n d w hn hd)
  have HR := hide (show nV a p l n d = 0 ∧ nE a p l n d = 2 by simp [nV, nE, h])
  generalize nV a p l n d = V at *
  generalize nE a p l n d = E at *
  clear hn hd
  by_cases h0 : 0 ≤ a ∧ a ≤ 1000000000000000
  · rw [decide_eq_true h0] at C0
    by_cases l1 : l < 1
    · clear h h0 C1 C2 C3
      go_enter Try.func15, Try.ntmps15
      go_wp2_with fail
      refine (C0 _).out.mono ?_
      rintro e w1 ⟨rfl, rfl⟩
      go_wp2_with fail
      go_ret2
      exact ⟨ret_vv HR.out.1.symm HR.out.2.symm, (Below.refl w.heap.size w).alloc (Nat.le_refl _) _⟩
    · by_cases l2 : 0 ≤ l ∧ l ≤ 1000000000000000
      · rw [decide_eq_true l2] at C1
        by_cases p2 : 1 ≤ p ∧ p ≤ 1000000000
        · rw [decide_eq_true p2] at C2
          have h3 : hcB n d = false := by
            cases hb : hcB n d
            · rfl
            · exact absurd ⟨h0, ⟨by omega, l2.2⟩, p2, hcB_iff.1 hb⟩ h
          rw [h3] at C3
          clear h h0 l2 p2 h3
          go_enter Try.func15, Try.ntmps15
          go_wp2_with fail
          refine (C0 _).out.mono ?_
          rintro e w1 ⟨rfl, rfl⟩
          go_wp2_with fail
          refine (C1 _).out.mono ?_
          rintro e w1 ⟨rfl, rfl⟩
          go_wp2_with fail
          refine (C2 _).out.mono ?_
          rintro e w1 ⟨rfl, rfl⟩
          go_wp2_with fail
          refine (C3 _).out.mono ?_
          rintro e w1 ⟨rfl, hb⟩
          have c0 := (hb.cell (p := ⟨w.heap.size, 0, none⟩) (by simp)).trans (show _ = some (Value.int .i64 n) by simp [go_sem])
          have c1 := (hb.cell (p := ⟨w.heap.size, 1, none⟩) (by simp)).trans (show _ = some (Value.int .i64 d) by simp [go_sem])
          have HB1 := hide (show Below w.heap.size w w1 from ((Below.refl w.heap.size w).alloc (Nat.le_refl _) _).trans (hb.mono (by simp)))
          clear hb
          go_wp2_with fail
          go_ret2
          exact ⟨ret_vv HR.out.1.symm HR.out.2.symm, HB1.out⟩
        · rw [decide_eq_false p2] at C2
          clear h h0 l2 p2 C3
          go_enter Try.func15, Try.ntmps15
          go_wp2_with fail
          refine (C0 _).out.mono ?_
          rintro e w1 ⟨rfl, rfl⟩
          go_wp2_with fail
          refine (C1 _).out.mono ?_
          rintro e w1 ⟨rfl, rfl⟩
          go_wp2_with fail
          refine (C2 _).out.mono ?_
          rintro e w1 ⟨rfl, rfl⟩
          go_wp2_with fail
          go_ret2
          exact ⟨ret_vv HR.out.1.symm HR.out.2.symm, (Below.refl w.heap.size w).alloc (Nat.le_refl _) _⟩
      · rw [decide_eq_false l2] at C1
        clear h h0 l2 C2 C3
        go_enter Try.func15, Try.ntmps15
        go_wp2_with fail
        refine (C0 _).out.mono ?_
        rintro e w1 ⟨rfl, rfl⟩
        go_wp2_with fail
        refine (C1 _).out.mono ?_
        rintro e w1 ⟨rfl, rfl⟩
        go_wp2_with fail
        go_ret2
        exact ⟨ret_vv HR.out.1.symm HR.out.2.symm, (Below.refl w.heap.size w).alloc (Nat.le_refl _) _⟩
  · rw [decide_eq_false h0] at C0
    clear h h0 C1 C2 C3
    go_enter Try.func15, Try.ntmps15
    go_wp2_with fail
    refine (C0 _).out.mono ?_
    rintro e w1 ⟨rfl, rfl⟩
    go_wp2_with fail
    go_ret2
    exact ⟨ret_vv HR.out.1.symm HR.out.2.symm, (Below.refl w.heap.size w).alloc (Nat.le_refl _) _⟩

theorem need_zero (a p l n d : Int) (w : World) (hn : I64 n) (hd : I64 d) (h : inN a p l n d) (ha : a = 0) :
    Calls Try.prog 15 #[.int .i64 a, .int .i64 p, .int .i64 l, .agg #[.int .i64 n, .int .i64 d]] w fun e w' => e = .returned (.tuple #[.int .i64 (nV a p l n d), .int .i64 (nE a p l n d)]) ∧ Below w.heap.size w w' := by
  have C0 := fun w => hide (isam_any a w)
  have C1 := fun w => hide (isam_any l w)
  have C2 := fun w => hide (ispr_any p w)
  have C3 := fun w => hide (hc_any n d w hn hd)
  rw [decide_eq_true h.1] at C0
  rw [decide_eq_true (show 0 ≤ l ∧ l ≤ 1000000000000000 from ⟨by have := h.2.1; omega, h.2.1.2⟩)] at C1
  rw [decide_eq_true h.2.2.1] at C2
  rw [hcB_iff.2 h.2.2.2] at C3
  have HR := hide (show nV a p l n d = 0 ∧ nE a p l n d = 0 by
    have hE : nE a p l n d = 0 := by unfold nE; rw [if_pos h, if_pos ha]
    exact ⟨by unfold nV; rw [if_pos hE, if_pos ha], hE⟩)
  generalize nV a p l n d = V at *
  generalize nE a p l n d = E at *
  have l1 : ¬ l < 1 := by have := h.2.1; omega
  clear h hn hd
  subst ha
  go_enter Try.func15, Try.ntmps15
  go_wp2_with fail
  refine (C0 _).out.mono ?_
  rintro e w1 ⟨rfl, rfl⟩
  go_wp2_with fail
  refine (C1 _).out.mono ?_
  rintro e w1 ⟨rfl, rfl⟩
  go_wp2_with fail
  refine (C2 _).out.mono ?_
  rintro e w1 ⟨rfl, rfl⟩
  go_wp2_with fail
  refine (C3 _).out.mono ?_
  rintro e w1 ⟨rfl, hb⟩
  have c0 := (hb.cell (p := ⟨w.heap.size, 0, none⟩) (by simp)).trans (show _ = some (Value.int .i64 n) by simp [go_sem])
  have c1 := (hb.cell (p := ⟨w.heap.size, 1, none⟩) (by simp)).trans (show _ = some (Value.int .i64 d) by simp [go_sem])
  have HB1 := hide (show Below w.heap.size w w1 from ((Below.refl w.heap.size w).alloc (Nat.le_refl _) _).trans (hb.mono (by simp)))
  clear hb
  go_wp2_with fail
  go_ret2
  exact ⟨ret_vv HR.out.1.symm HR.out.2.symm, HB1.out⟩

theorem need_full (a p l n d : Int) (w : World) (hn : I64 n) (hd : I64 d) (h : inN a p l n d) (ha : a ≠ 0) (hf : d = n) :
    Calls Try.prog 15 #[.int .i64 a, .int .i64 p, .int .i64 l, .agg #[.int .i64 n, .int .i64 d]] w fun e w' => e = .returned (.tuple #[.int .i64 (nV a p l n d), .int .i64 (nE a p l n d)]) ∧ Below w.heap.size w w' := by
  have C0 := fun w => hide (isam_any a w)
  have C1 := fun w => hide (isam_any l w)
  have C2 := fun w => hide (ispr_any p w)
  have C3 := fun w => hide (hc_any n d w hn hd)
  rw [decide_eq_true h.1] at C0
  rw [decide_eq_true (show 0 ≤ l ∧ l ≤ 1000000000000000 from ⟨by have := h.2.1; omega, h.2.1.2⟩)] at C1
  rw [decide_eq_true h.2.2.1] at C2
  rw [hcB_iff.2 h.2.2.2] at C3
  have HR := hide (show nV a p l n d = 0 ∧ nE a p l n d = 25 by
    have hE : nE a p l n d = 25 := by unfold nE; rw [if_pos h, if_neg ha, if_pos hf]
    exact ⟨by unfold nV; rw [hE, if_neg (by decide)], hE⟩)
  generalize nV a p l n d = V at *
  generalize nE a p l n d = E at *
  have l1 : ¬ l < 1 := by have := h.2.1; omega
  have e1 : (a == 0) = false := by simpa using ha
  clear h hn hd ha
  have hf := hf.symm
  subst hf
  go_enter Try.func15, Try.ntmps15
  go_wp2_with fail
  refine (C0 _).out.mono ?_
  rintro e w1 ⟨rfl, rfl⟩
  go_wp2_with fail
  refine (C1 _).out.mono ?_
  rintro e w1 ⟨rfl, rfl⟩
  go_wp2_with fail
  refine (C2 _).out.mono ?_
  rintro e w1 ⟨rfl, rfl⟩
  go_wp2_with fail
  refine (C3 _).out.mono ?_
  rintro e w1 ⟨rfl, hb⟩
  have c0 := (hb.cell (p := ⟨w.heap.size, 0, none⟩) (by simp)).trans (show _ = some (Value.int .i64 n) by simp [go_sem])
  have c1 := (hb.cell (p := ⟨w.heap.size, 1, none⟩) (by simp)).trans (show _ = some (Value.int .i64 n) by simp [go_sem])
  have HB1 := hide (show Below w.heap.size w w1 from ((Below.refl w.heap.size w).alloc (Nat.le_refl _) _).trans (hb.mono (by simp)))
  clear hb
  go_wp2_with fail
  go_ret2
  exact ⟨ret_vv HR.out.1.symm HR.out.2.symm, HB1.out⟩

set_option maxHeartbeats 2000000 in
theorem need_over (a p l n d : Int) (w : World) (hn : I64 n) (hd : I64 d) (h : inN a p l n d) (ha : a ≠ 0) (hf : d ≠ n) (hu : 1000000000000000 < nU a p n d) :
    Calls Try.prog 15 #[.int .i64 a, .int .i64 p, .int .i64 l, .agg #[.int .i64 n, .int .i64 d]] w fun e w' => e = .returned (.tuple #[.int .i64 (nV a p l n d), .int .i64 (nE a p l n d)]) ∧ Below w.heap.size w w' := by
  have C0 := fun w => hide (isam_any a w)
  have C1 := fun w => hide (isam_any l w)
  have C2 := fun w => hide (ispr_any p w)
  have C3 := fun w => hide (hc_any n d w hn hd)
  rw [decide_eq_true h.1] at C0
  rw [decide_eq_true (show 0 ≤ l ∧ l ≤ 1000000000000000 from ⟨by have := h.2.1; omega, h.2.1.2⟩)] at C1
  rw [decide_eq_true h.2.2.1] at C2
  rw [hcB_iff.2 h.2.2.2] at C3
  obtain ⟨⟨a0, a1⟩, ⟨l0, l2⟩, ⟨p0, p1⟩, ⟨hc, n0, n1⟩⟩ := id h
  obtain ⟨d0, d1, _, _, _⟩ := ck_ok hc
  obtain ⟨D0, D1, D2⟩ := dv_bd hc n0 n1 p0 p1
  have D3 := D2 (by omega)
  have l1 : ¬ l < 1 := by omega
  have e1 : (a == 0) = false := by simpa using ha
  have T := mul_le3 a0 a1 (show 0 ≤ d by omega) d1
  have hU : nU a p n d = (a * d + (p * (d - n) - 1)) / (p * (d - n)) := rfl
  have hM : nM a p l n d = (nU a p n d + l - 1) / l * l := rfl
  have HE : nE a p l n d = (if nM a p l n d ≤ 1000000000000000 then 0 else 12) := by simp only [nE, if_pos h, if_neg ha, if_neg hf]
  have HV : nV a p l n d = (if nM a p l n d ≤ 1000000000000000 then nM a p l n d else 0) := by simp only [nV, HE, if_neg ha]; split <;> simp_all
  have hup := up_ge (x := nU a p n d) (show 0 < l by omega)
  rw [← hM] at hup
  obtain ⟨s, hs⟩ : ∃ s, s = d - n := ⟨_, rfl⟩
  rw [← hs] at hU D0 D1 D3
  obtain ⟨D, hD⟩ : ∃ D, D = p * s := ⟨_, rfl⟩
  rw [← hD] at hU D0 D1 D3
  have wD : IntKind.u64.wrap (p * s) = D := by rw [← hD, IntKind.wrap_u64]; omega
  obtain ⟨X, hX⟩ : ∃ X, X = a * d := ⟨_, rfl⟩
  rw [← hX] at T hU
  have M1 := fun w => hide (mul64 a d w a0 (by omega) (by omega) (by omega))
  rw [← hX] at M1
  have A64 := fun w => add64 (X % 18446744073709551616) (D - 1) (by omega) (by omega) (by omega) (by omega) w
  have QU := fun w => hide (quot_any (X + (D - 1)) D w (by omega) (by omega) (by omega) (by omega))
  have eH : (X + (D - 1)) / 18446744073709551616 = X / 18446744073709551616 + (X % 18446744073709551616 + (D - 1)) / 18446744073709551616 := by omega
  have eL : (X + (D - 1)) % 18446744073709551616 = (X % 18446744073709551616 + (D - 1)) % 18446744073709551616 := by omega
  rw [eH, eL] at QU
  have U0 : 0 ≤ nU a p n d := by rw [hU]; exact Int.ediv_nonneg (by omega) (by omega)
  have qv : quV (X + (D - 1)) D = (if nU a p n d ≤ 1000000000000000 then nU a p n d else 0) ∧ quE (X + (D - 1)) D = (if nU a p n d ≤ 1000000000000000 then 0 else 12) := by rw [hU]; exact ⟨rfl, rfl⟩
  have H0 : 0 ≤ X / 18446744073709551616 := by omega
  have H1 : X / 18446744073709551616 ≤ 54211 := by omega
  have L0 : 0 ≤ X % 18446744073709551616 := by omega
  have L1 : X % 18446744073709551616 < 18446744073709551616 := by omega
  have es : d - n = s := hs.symm
  have sz : (s == 0) = false := by simp; omega
  have s1 : 0 ≤ s := by omega
  have s2 : s ≤ 1000000000 := by omega
  obtain ⟨T0, T1⟩ := T
  have le : (l == 0) = false := by simp; omega
  generalize nV a p l n d = V at *
  generalize nE a p l n d = E at *
  generalize nM a p l n d = M at *
  generalize nU a p n d = U at *
  generalize quV (X + (D - 1)) D = V2 at *
  generalize quE (X + (D - 1)) D = E2 at *
  generalize X / 18446744073709551616 = H at *
  generalize X % 18446744073709551616 = L at *
  have HR := hide (show V = 0 ∧ E = 12 by rw [HV, HE, if_neg (by omega), if_neg (by omega)]; exact ⟨rfl, rfl⟩)
  have q1 : V2 = 0 := by rw [qv.1, if_neg (by omega)]
  have q2 : E2 = 12 := by rw [qv.2, if_neg (by omega)]
  rw [q1, q2] at QU
  clear h hn hd ha hc D2 hU hM HE HV hup hs hD hX eH eL qv hu q1 q2 U0 hf
  go_enter Try.func15, Try.ntmps15
  go_wp2_with fail
  refine (C0 _).out.mono ?_
  rintro e w1 ⟨rfl, rfl⟩
  go_wp2_with fail
  refine (C1 _).out.mono ?_
  rintro e w1 ⟨rfl, rfl⟩
  go_wp2_with fail
  refine (C2 _).out.mono ?_
  rintro e w1 ⟨rfl, rfl⟩
  go_wp2_with fail
  refine (C3 _).out.mono ?_
  rintro e w1 ⟨rfl, hb⟩
  have c0 := (hb.cell (p := ⟨w.heap.size, 0, none⟩) (by simp)).trans (show _ = some (Value.int .i64 n) by simp [go_sem])
  have c1 := (hb.cell (p := ⟨w.heap.size, 1, none⟩) (by simp)).trans (show _ = some (Value.int .i64 d) by simp [go_sem])
  have HB1 := hide (show Below w.heap.size w w1 from ((Below.refl w.heap.size w).alloc (Nat.le_refl _) _).trans (hb.mono (by simp)))
  clear hb
  go_wp2_with fail
  refine (M1 _).out.mono ?_
  rintro e w2 ⟨rfl, rfl⟩
  go_wp2_with fail
  refine (QU _).out.mono ?_
  rintro e w2 ⟨rfl, hb⟩
  have HB2 := hide (HB1.out.trans (hb.mono HB1.out.size))
  clear hb
  go_wp2_with fail
  go_ret2
  exact ⟨ret_vv HR.out.1.symm HR.out.2.symm, HB2.out⟩

set_option maxHeartbeats 2000000 in
theorem need_big (a p l n d : Int) (w : World) (hn : I64 n) (hd : I64 d) (h : inN a p l n d) (ha : a ≠ 0) (hf : d ≠ n) (hu : nU a p n d ≤ 1000000000000000) (hm : 1000000000000000 < nM a p l n d) :
    Calls Try.prog 15 #[.int .i64 a, .int .i64 p, .int .i64 l, .agg #[.int .i64 n, .int .i64 d]] w fun e w' => e = .returned (.tuple #[.int .i64 (nV a p l n d), .int .i64 (nE a p l n d)]) ∧ Below w.heap.size w w' := by
  have C0 := fun w => hide (isam_any a w)
  have C1 := fun w => hide (isam_any l w)
  have C2 := fun w => hide (ispr_any p w)
  have C3 := fun w => hide (hc_any n d w hn hd)
  rw [decide_eq_true h.1] at C0
  rw [decide_eq_true (show 0 ≤ l ∧ l ≤ 1000000000000000 from ⟨by have := h.2.1; omega, h.2.1.2⟩)] at C1
  rw [decide_eq_true h.2.2.1] at C2
  rw [hcB_iff.2 h.2.2.2] at C3
  obtain ⟨⟨a0, a1⟩, ⟨l0, l2⟩, ⟨p0, p1⟩, ⟨hc, n0, n1⟩⟩ := id h
  obtain ⟨d0, d1, _, _, _⟩ := ck_ok hc
  obtain ⟨D0, D1, D2⟩ := dv_bd hc n0 n1 p0 p1
  have D3 := D2 (by omega)
  have l1 : ¬ l < 1 := by omega
  have e1 : (a == 0) = false := by simpa using ha
  have T := mul_le3 a0 a1 (show 0 ≤ d by omega) d1
  have hU : nU a p n d = (a * d + (p * (d - n) - 1)) / (p * (d - n)) := rfl
  have hM : nM a p l n d = (nU a p n d + l - 1) / l * l := rfl
  have HE : nE a p l n d = (if nM a p l n d ≤ 1000000000000000 then 0 else 12) := by simp only [nE, if_pos h, if_neg ha, if_neg hf]
  have HV : nV a p l n d = (if nM a p l n d ≤ 1000000000000000 then nM a p l n d else 0) := by simp only [nV, HE, if_neg ha]; split <;> simp_all
  have hup := up_ge (x := nU a p n d) (show 0 < l by omega)
  rw [← hM] at hup
  obtain ⟨s, hs⟩ : ∃ s, s = d - n := ⟨_, rfl⟩
  rw [← hs] at hU D0 D1 D3
  obtain ⟨D, hD⟩ : ∃ D, D = p * s := ⟨_, rfl⟩
  rw [← hD] at hU D0 D1 D3
  have wD : IntKind.u64.wrap (p * s) = D := by rw [← hD, IntKind.wrap_u64]; omega
  obtain ⟨X, hX⟩ : ∃ X, X = a * d := ⟨_, rfl⟩
  rw [← hX] at T hU
  have M1 := fun w => hide (mul64 a d w a0 (by omega) (by omega) (by omega))
  rw [← hX] at M1
  have A64 := fun w => add64 (X % 18446744073709551616) (D - 1) (by omega) (by omega) (by omega) (by omega) w
  have QU := fun w => hide (quot_any (X + (D - 1)) D w (by omega) (by omega) (by omega) (by omega))
  have eH : (X + (D - 1)) / 18446744073709551616 = X / 18446744073709551616 + (X % 18446744073709551616 + (D - 1)) / 18446744073709551616 := by omega
  have eL : (X + (D - 1)) % 18446744073709551616 = (X % 18446744073709551616 + (D - 1)) % 18446744073709551616 := by omega
  rw [eH, eL] at QU
  have U0 : 0 ≤ nU a p n d := by rw [hU]; exact Int.ediv_nonneg (by omega) (by omega)
  have qv : quV (X + (D - 1)) D = (if nU a p n d ≤ 1000000000000000 then nU a p n d else 0) ∧ quE (X + (D - 1)) D = (if nU a p n d ≤ 1000000000000000 then 0 else 12) := by rw [hU]; exact ⟨rfl, rfl⟩
  have H0 : 0 ≤ X / 18446744073709551616 := by omega
  have H1 : X / 18446744073709551616 ≤ 54211 := by omega
  have L0 : 0 ≤ X % 18446744073709551616 := by omega
  have L1 : X % 18446744073709551616 < 18446744073709551616 := by omega
  have es : d - n = s := hs.symm
  have sz : (s == 0) = false := by simp; omega
  have s1 : 0 ≤ s := by omega
  have s2 : s ≤ 1000000000 := by omega
  obtain ⟨T0, T1⟩ := T
  have le : (l == 0) = false := by simp; omega
  have td : (nU a p n d + l - 1).tdiv l = (nU a p n d + l - 1) / l := Int.tdiv_eq_ediv_of_nonneg (by omega)
  have tm : (1000000000000000 : Int).tdiv l = 1000000000000000 / l := Int.tdiv_eq_ediv_of_nonneg (by omega)
  have k0 : 0 ≤ (nU a p n d + l - 1) / l := Int.ediv_nonneg (by omega) (by omega)
  have k1 : (nU a p n d + l - 1) / l ≤ nU a p n d + l - 1 := Int.ediv_le_self _ (by omega)
  have kc : (nU a p n d + l - 1) / l ≤ 1000000000000000 / l ↔ nM a p l n d ≤ 1000000000000000 := by rw [hM]; exact Int.le_ediv_iff_mul_le (by omega)
  obtain ⟨k, hk⟩ : ∃ k, k = (nU a p n d + l - 1) / l := ⟨_, rfl⟩
  rw [← hk] at td k0 k1 kc hM
  obtain ⟨m, hmm⟩ : ∃ m, m = (1000000000000000 : Int) / l := ⟨_, rfl⟩
  rw [← hmm] at tm kc
  have mm0 : 0 ≤ m := by rw [hmm]; exact Int.ediv_nonneg (by omega) (by omega)
  have mm1 : m ≤ 1000000000000000 := by rw [hmm]; exact Int.ediv_le_self _ (by omega)
  have wk : nM a p l n d ≤ 1000000000000000 → wrap64 (k * l) = nM a p l n d := fun g => by rw [← hM]; exact wrap_sm (by omega) (by omega)
  clear hk
  generalize nV a p l n d = V at *
  generalize nE a p l n d = E at *
  generalize nM a p l n d = M at *
  generalize nU a p n d = U at *
  generalize quV (X + (D - 1)) D = V2 at *
  generalize quE (X + (D - 1)) D = E2 at *
  generalize X / 18446744073709551616 = H at *
  generalize X % 18446744073709551616 = L at *
  have HR := hide (show V = 0 ∧ E = 12 by rw [HV, HE, if_neg (by omega), if_neg (by omega)]; exact ⟨rfl, rfl⟩)
  have q1 : V2 = U := by rw [qv.1, if_pos hu]
  have q2 : E2 = 0 := by rw [qv.2, if_pos hu]
  rw [q1, q2] at QU
  have kk : m < k := by
    apply Classical.byContradiction; intro c
    have := kc.1 (by omega); omega
  clear h hn hd ha hc D2 hU hM HE HV hup hs hD hX eH eL qv q1 q2 hf kc hmm
  go_enter Try.func15, Try.ntmps15
  go_wp2_with fail
  refine (C0 _).out.mono ?_
  rintro e w1 ⟨rfl, rfl⟩
  go_wp2_with fail
  refine (C1 _).out.mono ?_
  rintro e w1 ⟨rfl, rfl⟩
  go_wp2_with fail
  refine (C2 _).out.mono ?_
  rintro e w1 ⟨rfl, rfl⟩
  go_wp2_with fail
  refine (C3 _).out.mono ?_
  rintro e w1 ⟨rfl, hb⟩
  have c0 := (hb.cell (p := ⟨w.heap.size, 0, none⟩) (by simp)).trans (show _ = some (Value.int .i64 n) by simp [go_sem])
  have c1 := (hb.cell (p := ⟨w.heap.size, 1, none⟩) (by simp)).trans (show _ = some (Value.int .i64 d) by simp [go_sem])
  have HB1 := hide (show Below w.heap.size w w1 from ((Below.refl w.heap.size w).alloc (Nat.le_refl _) _).trans (hb.mono (by simp)))
  clear hb
  go_wp2_with fail
  refine (M1 _).out.mono ?_
  rintro e w2 ⟨rfl, rfl⟩
  go_wp2_with fail
  refine (QU _).out.mono ?_
  rintro e w2 ⟨rfl, hb⟩
  have HB2 := hide (HB1.out.trans (hb.mono HB1.out.size))
  clear hb
  go_wp2_with fail
  go_ret2
  exact ⟨ret_vv HR.out.1.symm HR.out.2.symm, HB2.out⟩

set_option maxHeartbeats 2000000 in
theorem need_fit (a p l n d : Int) (w : World) (hn : I64 n) (hd : I64 d) (h : inN a p l n d) (ha : a ≠ 0) (hf : d ≠ n) (hu : nU a p n d ≤ 1000000000000000) (hm : nM a p l n d ≤ 1000000000000000) :
    Calls Try.prog 15 #[.int .i64 a, .int .i64 p, .int .i64 l, .agg #[.int .i64 n, .int .i64 d]] w fun e w' => e = .returned (.tuple #[.int .i64 (nV a p l n d), .int .i64 (nE a p l n d)]) ∧ Below w.heap.size w w' := by
  have C0 := fun w => hide (isam_any a w)
  have C1 := fun w => hide (isam_any l w)
  have C2 := fun w => hide (ispr_any p w)
  have C3 := fun w => hide (hc_any n d w hn hd)
  rw [decide_eq_true h.1] at C0
  rw [decide_eq_true (show 0 ≤ l ∧ l ≤ 1000000000000000 from ⟨by have := h.2.1; omega, h.2.1.2⟩)] at C1
  rw [decide_eq_true h.2.2.1] at C2
  rw [hcB_iff.2 h.2.2.2] at C3
  obtain ⟨⟨a0, a1⟩, ⟨l0, l2⟩, ⟨p0, p1⟩, ⟨hc, n0, n1⟩⟩ := id h
  obtain ⟨d0, d1, _, _, _⟩ := ck_ok hc
  obtain ⟨D0, D1, D2⟩ := dv_bd hc n0 n1 p0 p1
  have D3 := D2 (by omega)
  have l1 : ¬ l < 1 := by omega
  have e1 : (a == 0) = false := by simpa using ha
  have T := mul_le3 a0 a1 (show 0 ≤ d by omega) d1
  have hU : nU a p n d = (a * d + (p * (d - n) - 1)) / (p * (d - n)) := rfl
  have hM : nM a p l n d = (nU a p n d + l - 1) / l * l := rfl
  have HE : nE a p l n d = (if nM a p l n d ≤ 1000000000000000 then 0 else 12) := by simp only [nE, if_pos h, if_neg ha, if_neg hf]
  have HV : nV a p l n d = (if nM a p l n d ≤ 1000000000000000 then nM a p l n d else 0) := by simp only [nV, HE, if_neg ha]; split <;> simp_all
  have hup := up_ge (x := nU a p n d) (show 0 < l by omega)
  rw [← hM] at hup
  obtain ⟨s, hs⟩ : ∃ s, s = d - n := ⟨_, rfl⟩
  rw [← hs] at hU D0 D1 D3
  obtain ⟨D, hD⟩ : ∃ D, D = p * s := ⟨_, rfl⟩
  rw [← hD] at hU D0 D1 D3
  have wD : IntKind.u64.wrap (p * s) = D := by rw [← hD, IntKind.wrap_u64]; omega
  obtain ⟨X, hX⟩ : ∃ X, X = a * d := ⟨_, rfl⟩
  rw [← hX] at T hU
  have M1 := fun w => hide (mul64 a d w a0 (by omega) (by omega) (by omega))
  rw [← hX] at M1
  have A64 := fun w => add64 (X % 18446744073709551616) (D - 1) (by omega) (by omega) (by omega) (by omega) w
  have QU := fun w => hide (quot_any (X + (D - 1)) D w (by omega) (by omega) (by omega) (by omega))
  have eH : (X + (D - 1)) / 18446744073709551616 = X / 18446744073709551616 + (X % 18446744073709551616 + (D - 1)) / 18446744073709551616 := by omega
  have eL : (X + (D - 1)) % 18446744073709551616 = (X % 18446744073709551616 + (D - 1)) % 18446744073709551616 := by omega
  rw [eH, eL] at QU
  have U0 : 0 ≤ nU a p n d := by rw [hU]; exact Int.ediv_nonneg (by omega) (by omega)
  have qv : quV (X + (D - 1)) D = (if nU a p n d ≤ 1000000000000000 then nU a p n d else 0) ∧ quE (X + (D - 1)) D = (if nU a p n d ≤ 1000000000000000 then 0 else 12) := by rw [hU]; exact ⟨rfl, rfl⟩
  have H0 : 0 ≤ X / 18446744073709551616 := by omega
  have H1 : X / 18446744073709551616 ≤ 54211 := by omega
  have L0 : 0 ≤ X % 18446744073709551616 := by omega
  have L1 : X % 18446744073709551616 < 18446744073709551616 := by omega
  have es : d - n = s := hs.symm
  have sz : (s == 0) = false := by simp; omega
  have s1 : 0 ≤ s := by omega
  have s2 : s ≤ 1000000000 := by omega
  obtain ⟨T0, T1⟩ := T
  have le : (l == 0) = false := by simp; omega
  have td : (nU a p n d + l - 1).tdiv l = (nU a p n d + l - 1) / l := Int.tdiv_eq_ediv_of_nonneg (by omega)
  have tm : (1000000000000000 : Int).tdiv l = 1000000000000000 / l := Int.tdiv_eq_ediv_of_nonneg (by omega)
  have k0 : 0 ≤ (nU a p n d + l - 1) / l := Int.ediv_nonneg (by omega) (by omega)
  have k1 : (nU a p n d + l - 1) / l ≤ nU a p n d + l - 1 := Int.ediv_le_self _ (by omega)
  have kc : (nU a p n d + l - 1) / l ≤ 1000000000000000 / l ↔ nM a p l n d ≤ 1000000000000000 := by rw [hM]; exact Int.le_ediv_iff_mul_le (by omega)
  obtain ⟨k, hk⟩ : ∃ k, k = (nU a p n d + l - 1) / l := ⟨_, rfl⟩
  rw [← hk] at td k0 k1 kc hM
  obtain ⟨m, hmm⟩ : ∃ m, m = (1000000000000000 : Int) / l := ⟨_, rfl⟩
  rw [← hmm] at tm kc
  have mm0 : 0 ≤ m := by rw [hmm]; exact Int.ediv_nonneg (by omega) (by omega)
  have mm1 : m ≤ 1000000000000000 := by rw [hmm]; exact Int.ediv_le_self _ (by omega)
  have wk : nM a p l n d ≤ 1000000000000000 → wrap64 (k * l) = nM a p l n d := fun g => by rw [← hM]; exact wrap_sm (by omega) (by omega)
  clear hk
  generalize nV a p l n d = V at *
  generalize nE a p l n d = E at *
  generalize nM a p l n d = M at *
  generalize nU a p n d = U at *
  generalize quV (X + (D - 1)) D = V2 at *
  generalize quE (X + (D - 1)) D = E2 at *
  generalize X / 18446744073709551616 = H at *
  generalize X % 18446744073709551616 = L at *
  have HR := hide (show V = M ∧ E = 0 by rw [HV, HE, if_pos hm, if_pos hm]; exact ⟨rfl, rfl⟩)
  have q1 : V2 = U := by rw [qv.1, if_pos hu]
  have q2 : E2 = 0 := by rw [qv.2, if_pos hu]
  rw [q1, q2] at QU
  have kk : ¬ m < k := by have := kc.2 hm; omega
  have wk := wk hm
  clear h hn hd ha hc D2 hU hM HE HV hup hs hD hX eH eL qv q1 q2 hf kc hmm
  go_enter Try.func15, Try.ntmps15
  go_wp2_with fail
  refine (C0 _).out.mono ?_
  rintro e w1 ⟨rfl, rfl⟩
  go_wp2_with fail
  refine (C1 _).out.mono ?_
  rintro e w1 ⟨rfl, rfl⟩
  go_wp2_with fail
  refine (C2 _).out.mono ?_
  rintro e w1 ⟨rfl, rfl⟩
  go_wp2_with fail
  refine (C3 _).out.mono ?_
  rintro e w1 ⟨rfl, hb⟩
  have c0 := (hb.cell (p := ⟨w.heap.size, 0, none⟩) (by simp)).trans (show _ = some (Value.int .i64 n) by simp [go_sem])
  have c1 := (hb.cell (p := ⟨w.heap.size, 1, none⟩) (by simp)).trans (show _ = some (Value.int .i64 d) by simp [go_sem])
  have HB1 := hide (show Below w.heap.size w w1 from ((Below.refl w.heap.size w).alloc (Nat.le_refl _) _).trans (hb.mono (by simp)))
  clear hb
  go_wp2_with fail
  refine (M1 _).out.mono ?_
  rintro e w2 ⟨rfl, rfl⟩
  go_wp2_with fail
  refine (QU _).out.mono ?_
  rintro e w2 ⟨rfl, hb⟩
  have HB2 := hide (HB1.out.trans (hb.mono HB1.out.size))
  clear hb
  have WK := hide wk
  go_wp2_with fail
  go_ret2
  exact ⟨ret_vv (WK.out.trans HR.out.1.symm) HR.out.2.symm, HB2.out⟩

theorem need_any (a p l n d : Int) (w : World) (hn : I64 n) (hd : I64 d)  :
    Calls Try.prog 15 #[.int .i64 a, .int .i64 p, .int .i64 l, .agg #[.int .i64 n, .int .i64 d]] w fun e w' => e = .returned (.tuple #[.int .i64 (nV a p l n d), .int .i64 (nE a p l n d)]) ∧ Below w.heap.size w w' := by
  by_cases h : inN a p l n d
  · by_cases ha : a = 0
    · exact need_zero a p l n d w hn hd h ha
    · by_cases hf : d = n
      · exact need_full a p l n d w hn hd h ha hf
      · by_cases hu : nU a p n d ≤ 1000000000000000
        · by_cases hm : nM a p l n d ≤ 1000000000000000
          · exact need_fit a p l n d w hn hd h ha hf hu hm
          · exact need_big a p l n d w hn hd h ha hf hu (by omega)
        · exact need_over a p l n d w hn hd h ha hf (by omega)
  · exact need_no a p l n d w hn hd h
end Go.Proofs.Ytjbpgpfhabefbaa
