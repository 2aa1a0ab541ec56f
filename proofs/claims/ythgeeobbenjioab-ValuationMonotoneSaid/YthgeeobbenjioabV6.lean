/-
  The reference's Needed, the statements' 'of', and the example of the chapter at this translation. Conditions: the arguments fit their kinds.
-/
import Derived.Test.YthgeeobbenjioabV5
import Derived.Test.YthgeeobbenjioabQuo
namespace Go.Proofs.Ythgeeobbenjioab
open Go.RowKit
set_option linter.unusedVariables false

theorem of_any (n d : Int) (w : World) : Calls Try.prog 7 #[.agg #[.int .i64 n, .int .i64 d]] w fun e w' => e = .returned (.agg #[.int .i64 n, .int .i64 d]) ∧ Below w.heap.size w w' := by
  go_enter Try.func7, Try.ntmps7
  go_wp2
  exact bodyPost_ret (v := .agg #[.int .i64 n, .int .i64 d]) (by simp [results, Try.results7, go_sem]) rfl
    ⟨rfl, by repeat' (first | exact Below.refl _ _ | exact Nat.le_refl _ | refine Below.setCell ?_ ?_ _ | refine Below.alloc ?_ ?_ _ | (simp; done) | (simp; omega))⟩

def fitB (p n d : Int) : Bool := decide ((1 ≤ p ∧ p ≤ 1000000000) ∧ ckE n d = 0 ∧ 0 ≤ n ∧ n ≤ d)
theorem fits_any (p n d : Int) (w : World) (hn : I64 n) (hd : I64 d) : Calls Try.prog 18 #[.int .i64 p, .agg #[.int .i64 n, .int .i64 d]] w fun e w' => e = .returned (.bool (fitB p n d)) ∧ Below w.heap.size w w' := by
  have C := fun w => hide (rcheck_any n d w hn.1 hn.2 hd.1 hd.2)
  have HB := hide (show fitB p n d = decide ((1 ≤ p ∧ p ≤ 1000000000) ∧ ckE n d = 0 ∧ 0 ≤ n ∧ n ≤ d) from rfl)
  generalize fitB p n d = B at *
  generalize ckE n d = E at *
  have fin : ∀ {b : Bool} {w' : World}, b = B → Below w.heap.size w w' → (Ending.returned (.bool b) = .returned (.bool B)) ∧ Below w.heap.size w w' := fun h h' => ⟨by rw [h], h'⟩
  by_cases p1 : 1 ≤ p
  · by_cases p2 : p ≤ 1000000000
    · by_cases h : E = 0
      · subst h
        by_cases h0 : 0 ≤ n
        · go_enter Try.func18, Try.ntmps18
          go_wp2_with fail
          refine (C _).out.mono ?_
          rintro e w1 ⟨rfl, hb⟩
          have c0 := (hb.cell (p := ⟨w.heap.size, 0, none⟩) (by simp)).trans (show _ = some (Value.int .i64 n) by simp [go_sem])
          have c1 := (hb.cell (p := ⟨w.heap.size, 1, none⟩) (by simp)).trans (show _ = some (Value.int .i64 d) by simp [go_sem])
          have HB1 := hide (show Below w.heap.size w w1 from ((Below.refl w.heap.size w).alloc (Nat.le_refl _) _).trans (hb.mono (by simp)))
          clear hb
          go_wp2_with fail
          go_ret
          exact fin (by rw [HB.out]; simp [h0, p1, p2]) HB1.out
        · go_enter Try.func18, Try.ntmps18
          go_wp2_with fail
          refine (C _).out.mono ?_
          rintro e w1 ⟨rfl, hb⟩
          have c0 := (hb.cell (p := ⟨w.heap.size, 0, none⟩) (by simp)).trans (show _ = some (Value.int .i64 n) by simp [go_sem])
          have c1 := (hb.cell (p := ⟨w.heap.size, 1, none⟩) (by simp)).trans (show _ = some (Value.int .i64 d) by simp [go_sem])
          have HB1 := hide (show Below w.heap.size w w1 from ((Below.refl w.heap.size w).alloc (Nat.le_refl _) _).trans (hb.mono (by simp)))
          clear hb
          go_wp2_with fail
          go_ret
          exact fin (by rw [HB.out]; simp <;> omega) HB1.out
      · have e1 : (E == 0) = false := by simpa using h
        go_enter Try.func18, Try.ntmps18
        go_wp2_with fail
        refine (C _).out.mono ?_
        rintro e w1 ⟨rfl, hb⟩
        have HB1 := hide (show Below w.heap.size w w1 from ((Below.refl w.heap.size w).alloc (Nat.le_refl _) _).trans (hb.mono (by simp)))
        clear hb
        go_wp2_with fail
        go_ret
        exact fin (by rw [HB.out]; simp [h]) HB1.out
    · clear C
      go_enter Try.func18, Try.ntmps18
      go_wp2_with fail
      go_ret
      exact fin (by rw [HB.out]; simp <;> omega) ((Below.refl w.heap.size w).alloc (Nat.le_refl _) _)
  · clear C
    go_enter Try.func18, Try.ntmps18
    go_wp2_with fail
    go_ret
    exact fin (by rw [HB.out]; simp <;> omega) ((Below.refl w.heap.size w).alloc (Nat.le_refl _) _)

theorem rneed_no (a p l n d : Int) (w : World) (hn : I64 n) (hd : I64 d) (h : ¬ inN a p l n d) :
    Calls Try.prog 8 #[.int .i64 a, .int .i64 p, .int .i64 l, .agg #[.int .i64 n, .int .i64 d]] w fun e w' => e = .returned (.tuple #[.int .i64 (nV a p l n d), .int .i64 (nE a p l n d)]) ∧ Below w.heap.size w w' := by
  have C := fun w => hide (fits_any p n d w hn hd)
  have HR := hide (show nV a p l n d = 0 ∧ nE a p l n d = 2 by simp [nV, nE, h])
  generalize nV a p l n d = V at *
  generalize nE a p l n d = E at *
  clear hn hd
  by_cases h0 : a < 0
  · clear h C
    go_enter Try.func8, Try.ntmps8
    go_wp2_with fail
    go_ret2
    exact ⟨ret_vv HR.out.1.symm HR.out.2.symm, (Below.refl w.heap.size w).alloc (Nat.le_refl _) _⟩
  · by_cases h1 : 1000000000000000 < a
    · clear h C
      go_enter Try.func8, Try.ntmps8
      go_wp2_with fail
      go_ret2
      exact ⟨ret_vv HR.out.1.symm HR.out.2.symm, (Below.refl w.heap.size w).alloc (Nat.le_refl _) _⟩
    · by_cases h2 : l < 1
      · clear h C
        go_enter Try.func8, Try.ntmps8
        go_wp2_with fail
        go_ret2
        exact ⟨ret_vv HR.out.1.symm HR.out.2.symm, (Below.refl w.heap.size w).alloc (Nat.le_refl _) _⟩
      · by_cases h3 : 1000000000000000 < l
        · clear h C
          go_enter Try.func8, Try.ntmps8
          go_wp2_with fail
          go_ret2
          exact ⟨ret_vv HR.out.1.symm HR.out.2.symm, (Below.refl w.heap.size w).alloc (Nat.le_refl _) _⟩
        · have hf : fitB p n d = false := by
            cases hb : fitB p n d
            · rfl
            · have q := of_decide_eq_true hb
              exact absurd ⟨⟨by omega, by omega⟩, ⟨by omega, by omega⟩, q.1, q.2⟩ h
          rw [hf] at C
          clear h hf
          go_enter Try.func8, Try.ntmps8
          go_wp2_with fail
          refine (C _).out.mono ?_
          rintro e w1 ⟨rfl, hb⟩
          have c0 := (hb.cell (p := ⟨w.heap.size, 0, none⟩) (by simp)).trans (show _ = some (Value.int .i64 n) by simp [go_sem])
          have c1 := (hb.cell (p := ⟨w.heap.size, 1, none⟩) (by simp)).trans (show _ = some (Value.int .i64 d) by simp [go_sem])
          have HB1 := hide (show Below w.heap.size w w1 from ((Below.refl w.heap.size w).alloc (Nat.le_refl _) _).trans (hb.mono (by simp)))
          clear hb
          go_wp2_with fail
          go_ret2
          exact ⟨ret_vv HR.out.1.symm HR.out.2.symm, HB1.out⟩

theorem rneed_zero (a p l n d : Int) (w : World) (hn : I64 n) (hd : I64 d) (h : inN a p l n d) (ha : a = 0) :
    Calls Try.prog 8 #[.int .i64 a, .int .i64 p, .int .i64 l, .agg #[.int .i64 n, .int .i64 d]] w fun e w' => e = .returned (.tuple #[.int .i64 (nV a p l n d), .int .i64 (nE a p l n d)]) ∧ Below w.heap.size w w' := by
  have C := fun w => hide (fits_any p n d w hn hd)
  rw [show fitB p n d = true from decide_eq_true ⟨h.2.2.1, h.2.2.2⟩] at C
  obtain ⟨⟨a0, a1⟩, ⟨l0, l2⟩, ⟨p0, p1⟩, ⟨hc, n0, n1⟩⟩ := id h
  have l1 : ¬ l < 1 := by omega
  have HR := hide (show nV a p l n d = 0 ∧ nE a p l n d = 0 by
    have hE : nE a p l n d = 0 := by unfold nE; rw [if_pos h, if_pos ha]
    exact ⟨by unfold nV; rw [if_pos hE, if_pos ha], hE⟩)
  generalize nV a p l n d = V at *
  generalize nE a p l n d = E at *
  clear h hn hd
  subst ha
  go_enter Try.func8, Try.ntmps8
  go_wp2_with fail
  refine (C _).out.mono ?_
  rintro e w1 ⟨rfl, hb⟩
  have c0 := (hb.cell (p := ⟨w.heap.size, 0, none⟩) (by simp)).trans (show _ = some (Value.int .i64 n) by simp [go_sem])
  have c1 := (hb.cell (p := ⟨w.heap.size, 1, none⟩) (by simp)).trans (show _ = some (Value.int .i64 d) by simp [go_sem])
  have HB1 := hide (show Below w.heap.size w w1 from ((Below.refl w.heap.size w).alloc (Nat.le_refl _) _).trans (hb.mono (by simp)))
  clear hb
  go_wp2_with fail
  go_ret2
  exact ⟨ret_vv HR.out.1.symm HR.out.2.symm, HB1.out⟩

theorem rneed_full (a p l n d : Int) (w : World) (hn : I64 n) (hd : I64 d) (h : inN a p l n d) (ha : a ≠ 0) (hf : d = n) :
    Calls Try.prog 8 #[.int .i64 a, .int .i64 p, .int .i64 l, .agg #[.int .i64 n, .int .i64 d]] w fun e w' => e = .returned (.tuple #[.int .i64 (nV a p l n d), .int .i64 (nE a p l n d)]) ∧ Below w.heap.size w w' := by
  have C := fun w => hide (fits_any p n d w hn hd)
  rw [show fitB p n d = true from decide_eq_true ⟨h.2.2.1, h.2.2.2⟩] at C
  obtain ⟨⟨a0, a1⟩, ⟨l0, l2⟩, ⟨p0, p1⟩, ⟨hc, n0, n1⟩⟩ := id h
  have l1 : ¬ l < 1 := by omega
  have HR := hide (show nV a p l n d = 0 ∧ nE a p l n d = 25 by
    have hE : nE a p l n d = 25 := by unfold nE; rw [if_pos h, if_neg ha, if_pos hf]
    exact ⟨by unfold nV; rw [hE, if_neg (by decide)], hE⟩)
  generalize nV a p l n d = V at *
  generalize nE a p l n d = E at *
  have e1 : (a == 0) = false := by simpa using ha
  clear h hn hd ha
  have hf := hf.symm
  subst hf
  go_enter Try.func8, Try.ntmps8
  go_wp2_with fail
  refine (C _).out.mono ?_
  rintro e w1 ⟨rfl, hb⟩
  have c0 := (hb.cell (p := ⟨w.heap.size, 0, none⟩) (by simp)).trans (show _ = some (Value.int .i64 n) by simp [go_sem])
  have c1 := (hb.cell (p := ⟨w.heap.size, 1, none⟩) (by simp)).trans (show _ = some (Value.int .i64 n) by simp [go_sem])
  have HB1 := hide (show Below w.heap.size w w1 from ((Below.refl w.heap.size w).alloc (Nat.le_refl _) _).trans (hb.mono (by simp)))
  clear hb
  go_wp2_with fail
  go_ret2
  exact ⟨ret_vv HR.out.1.symm HR.out.2.symm, HB1.out⟩

set_option maxHeartbeats 2000000 in
theorem rneed_over (a p l n d : Int) (w : World) (hn : I64 n) (hd : I64 d) (h : inN a p l n d) (ha : a ≠ 0) (hf : d ≠ n) (hq : 2000000000000000 < a * d / (p * (d - n))) :
    Calls Try.prog 8 #[.int .i64 a, .int .i64 p, .int .i64 l, .agg #[.int .i64 n, .int .i64 d]] w fun e w' => e = .returned (.tuple #[.int .i64 (nV a p l n d), .int .i64 (nE a p l n d)]) ∧ Below w.heap.size w w' := by
  have C := fun w => hide (fits_any p n d w hn hd)
  rw [show fitB p n d = true from decide_eq_true ⟨h.2.2.1, h.2.2.2⟩] at C
  obtain ⟨⟨a0, a1⟩, ⟨l0, l2⟩, ⟨p0, p1⟩, ⟨hc, n0, n1⟩⟩ := id h
  have l1 : ¬ l < 1 := by omega
  obtain ⟨d0, d1, _, _, _⟩ := ck_ok hc
  obtain ⟨D0, D1, D2⟩ := dv_bd hc n0 n1 p0 p1
  have D3 := D2 (by omega)
  have e1 : (a == 0) = false := by simpa using ha
  have e2 : (n == d) = false := by simpa using fun h => hf h.symm
  have hU : nU a p n d = (a * d + p * (d - n) - 1) / (p * (d - n)) := by unfold nU; rw [Int.add_sub_assoc]
  rw [up_div (by omega)] at hU
  have hM : nM a p l n d = (nU a p n d + l - 1) / l * l := rfl
  have HE : nE a p l n d = (if nM a p l n d ≤ 1000000000000000 then 0 else 12) := by simp only [nE, if_pos h, if_neg ha, if_neg hf]
  have HV : nV a p l n d = (if nM a p l n d ≤ 1000000000000000 then nM a p l n d else 0) := by simp only [nV, HE, if_neg ha]; split <;> simp_all
  have hup := up_ge (x := nU a p n d) (show 0 < l by omega)
  rw [← hM] at hup
  rw [up_div (by omega)] at hM
  have T0 : 0 ≤ a * d := Int.mul_nonneg a0 (by omega)
  obtain ⟨s, hs⟩ : ∃ s, s = d - n := ⟨_, rfl⟩
  rw [← hs] at hU D0 D1 D3
  obtain ⟨D, hD⟩ : ∃ D, D = p * s := ⟨_, rfl⟩
  rw [← hD] at hU D0 D1 D3
  have wD : wrap64 (p * s) = D := by rw [← hD]; exact wrap_sm (by omega) (by omega)
  rw [← hs, ← hD] at hq
  have QU := fun w => hide (refquo_any a d D w a0 a1 (by omega) (by omega) (by omega) (by omega))
  unfold QuoPost at QU
  obtain ⟨X, hX⟩ : ∃ X, X = a * d := ⟨_, rfl⟩
  rw [← hX] at T0 hU QU hq
  have q0 : 0 ≤ X / D := Int.ediv_nonneg T0 (by omega)
  have r0 := Int.emod_nonneg X (show D ≠ 0 by omega)
  have es : d - n = s := hs.symm
  have HQ := hide (show qB X D = decide (X / D ≤ 2000000000000000) ∧ qV X D = (if X / D ≤ 2000000000000000 then X / D else 0) ∧ qR X D = (if X / D ≤ 2000000000000000 then X % D else 0) from ⟨rfl, rfl, rfl⟩)
  have le : (l == 0) = false := by simp; omega
  generalize nV a p l n d = V at *
  generalize nE a p l n d = E at *
  generalize nM a p l n d = M at *
  generalize nU a p n d = U at *
  generalize qV X D = V2 at *
  generalize qR X D = R2 at *
  generalize qB X D = B2 at *
  generalize X / D = Q at *
  generalize X % D = R at *
  have HR := hide (show V = 0 ∧ E = 12 by
    have : 1000000000000000 < M := by split at hU <;> omega
    rw [HV, HE, if_neg (by omega), if_neg (by omega)]; exact ⟨rfl, rfl⟩)
  have QV := HQ.out
  rw [decide_eq_false (show ¬ Q ≤ 2000000000000000 by omega), if_neg (by omega), if_neg (by omega)] at QV
  rw [QV.1, QV.2.1, QV.2.2] at QU
  clear h hn hd ha hc D2 hU hM HE HV hup hs hD hX HQ hf QV
  go_enter Try.func8, Try.ntmps8
  go_wp2_with fail
  refine (C _).out.mono ?_
  rintro e w1 ⟨rfl, hb⟩
  have c0 := (hb.cell (p := ⟨w.heap.size, 0, none⟩) (by simp)).trans (show _ = some (Value.int .i64 n) by simp [go_sem])
  have c1 := (hb.cell (p := ⟨w.heap.size, 1, none⟩) (by simp)).trans (show _ = some (Value.int .i64 d) by simp [go_sem])
  have HB1 := hide (show Below w.heap.size w w1 from ((Below.refl w.heap.size w).alloc (Nat.le_refl _) _).trans (hb.mono (by simp)))
  clear hb
  go_wp2_with fail
  refine (QU _).out.mono ?_
  rintro e w2 ⟨rfl, k2, rfl⟩
  go_wp2_with fail
  go_ret2
  exact ⟨ret_vv HR.out.1.symm HR.out.2.symm, below_drewN HB1.out _⟩

set_option maxHeartbeats 2000000 in
theorem rneed_000 (a p l n d : Int) (w : World) (hn : I64 n) (hd : I64 d) (h : inN a p l n d) (ha : a ≠ 0) (hf : d ≠ n) (hq : a * d / (p * (d - n)) ≤ 2000000000000000) (hr : ¬ 0 < a * d % (p * (d - n))) (ht : ¬ 0 < nU a p n d % l) (hm : nM a p l n d ≤ 1000000000000000) :
    Calls Try.prog 8 #[.int .i64 a, .int .i64 p, .int .i64 l, .agg #[.int .i64 n, .int .i64 d]] w fun e w' => e = .returned (.tuple #[.int .i64 (nV a p l n d), .int .i64 (nE a p l n d)]) ∧ Below w.heap.size w w' := by
  have C := fun w => hide (fits_any p n d w hn hd)
  rw [show fitB p n d = true from decide_eq_true ⟨h.2.2.1, h.2.2.2⟩] at C
  obtain ⟨⟨a0, a1⟩, ⟨l0, l2⟩, ⟨p0, p1⟩, ⟨hc, n0, n1⟩⟩ := id h
  have l1 : ¬ l < 1 := by omega
  obtain ⟨d0, d1, _, _, _⟩ := ck_ok hc
  obtain ⟨D0, D1, D2⟩ := dv_bd hc n0 n1 p0 p1
  have D3 := D2 (by omega)
  have e1 : (a == 0) = false := by simpa using ha
  have e2 : (n == d) = false := by simpa using fun h => hf h.symm
  have hU : nU a p n d = (a * d + p * (d - n) - 1) / (p * (d - n)) := by unfold nU; rw [Int.add_sub_assoc]
  rw [up_div (by omega)] at hU
  have hM : nM a p l n d = (nU a p n d + l - 1) / l * l := rfl
  have HE : nE a p l n d = (if nM a p l n d ≤ 1000000000000000 then 0 else 12) := by simp only [nE, if_pos h, if_neg ha, if_neg hf]
  have HV : nV a p l n d = (if nM a p l n d ≤ 1000000000000000 then nM a p l n d else 0) := by simp only [nV, HE, if_neg ha]; split <;> simp_all
  have hup := up_ge (x := nU a p n d) (show 0 < l by omega)
  rw [← hM] at hup
  rw [up_div (by omega)] at hM
  have T0 : 0 ≤ a * d := Int.mul_nonneg a0 (by omega)
  obtain ⟨s, hs⟩ : ∃ s, s = d - n := ⟨_, rfl⟩
  rw [← hs] at hU D0 D1 D3
  obtain ⟨D, hD⟩ : ∃ D, D = p * s := ⟨_, rfl⟩
  rw [← hD] at hU D0 D1 D3
  have wD : wrap64 (p * s) = D := by rw [← hD]; exact wrap_sm (by omega) (by omega)
  rw [← hs, ← hD] at hq hr
  have QU := fun w => hide (refquo_any a d D w a0 a1 (by omega) (by omega) (by omega) (by omega))
  unfold QuoPost at QU
  obtain ⟨X, hX⟩ : ∃ X, X = a * d := ⟨_, rfl⟩
  rw [← hX] at T0 hU QU hq hr
  have q0 : 0 ≤ X / D := Int.ediv_nonneg T0 (by omega)
  have r0 := Int.emod_nonneg X (show D ≠ 0 by omega)
  have es : d - n = s := hs.symm
  have HQ := hide (show qB X D = decide (X / D ≤ 2000000000000000) ∧ qV X D = (if X / D ≤ 2000000000000000 then X / D else 0) ∧ qR X D = (if X / D ≤ 2000000000000000 then X % D else 0) from ⟨rfl, rfl, rfl⟩)
  have le : (l == 0) = false := by simp; omega
  have u0 : 0 ≤ nU a p n d := by rw [hU]; split <;> omega
  have td : (nU a p n d).tdiv l = nU a p n d / l := Int.tdiv_eq_ediv_of_nonneg u0
  have tm : (nU a p n d).tmod l = nU a p n d % l := Int.tmod_eq_emod_of_nonneg u0
  have k0 : 0 ≤ nU a p n d / l := Int.ediv_nonneg u0 (by omega)
  have k1 : nU a p n d / l ≤ nU a p n d := Int.ediv_le_self _ u0
  obtain ⟨k, hk⟩ : ∃ k, k = nU a p n d / l := ⟨_, rfl⟩
  rw [← hk] at td k0 k1 hM
  obtain ⟨y, hy⟩ : ∃ y, y = nU a p n d % l := ⟨_, rfl⟩
  rw [← hy] at tm ht hM
  clear hk hy
  generalize nV a p l n d = V at *
  generalize nE a p l n d = E at *
  generalize nM a p l n d = M at *
  generalize nU a p n d = U at *
  generalize qV X D = V2 at *
  generalize qR X D = R2 at *
  generalize qB X D = B2 at *
  generalize X / D = Q at *
  generalize X % D = R at *
  rw [if_neg hr, Int.add_zero] at hU
  subst hU
  rw [if_neg ht, Int.add_zero] at hM
  have HR := hide (show V = M ∧ E = 0 by rw [HV, HE, if_pos hm, if_pos hm]; exact ⟨rfl, rfl⟩)
  have QV := HQ.out
  rw [decide_eq_true hq, if_pos hq, if_pos hq] at QV
  rw [QV.1, QV.2.1, QV.2.2] at QU
  have wk : wrap64 (k * l) = M := by rw [← hM]; exact wrap_sm (by omega) (by omega)
  have WK := hide wk
  clear h hn hd ha hc D2 hM HE HV hup hs hD hX HQ hf QV
  go_enter Try.func8, Try.ntmps8
  go_wp2_with fail
  refine (C _).out.mono ?_
  rintro e w1 ⟨rfl, hb⟩
  have c0 := (hb.cell (p := ⟨w.heap.size, 0, none⟩) (by simp)).trans (show _ = some (Value.int .i64 n) by simp [go_sem])
  have c1 := (hb.cell (p := ⟨w.heap.size, 1, none⟩) (by simp)).trans (show _ = some (Value.int .i64 d) by simp [go_sem])
  have HB1 := hide (show Below w.heap.size w w1 from ((Below.refl w.heap.size w).alloc (Nat.le_refl _) _).trans (hb.mono (by simp)))
  clear hb
  go_wp2_with fail
  refine (QU _).out.mono ?_
  rintro e w2 ⟨rfl, k2, rfl⟩
  go_wp2_with fail
  go_ret2
  first
    | exact ⟨ret_vv HR.out.1.symm HR.out.2.symm, below_drewN HB1.out _⟩
    | exact ⟨ret_vv (WK.out.trans HR.out.1.symm) HR.out.2.symm, below_drewN HB1.out _⟩

set_option maxHeartbeats 2000000 in
theorem rneed_001 (a p l n d : Int) (w : World) (hn : I64 n) (hd : I64 d) (h : inN a p l n d) (ha : a ≠ 0) (hf : d ≠ n) (hq : a * d / (p * (d - n)) ≤ 2000000000000000) (hr : ¬ 0 < a * d % (p * (d - n))) (ht : ¬ 0 < nU a p n d % l) (hm : 1000000000000000 < nM a p l n d) :
    Calls Try.prog 8 #[.int .i64 a, .int .i64 p, .int .i64 l, .agg #[.int .i64 n, .int .i64 d]] w fun e w' => e = .returned (.tuple #[.int .i64 (nV a p l n d), .int .i64 (nE a p l n d)]) ∧ Below w.heap.size w w' := by
  have C := fun w => hide (fits_any p n d w hn hd)
  rw [show fitB p n d = true from decide_eq_true ⟨h.2.2.1, h.2.2.2⟩] at C
  obtain ⟨⟨a0, a1⟩, ⟨l0, l2⟩, ⟨p0, p1⟩, ⟨hc, n0, n1⟩⟩ := id h
  have l1 : ¬ l < 1 := by omega
  obtain ⟨d0, d1, _, _, _⟩ := ck_ok hc
  obtain ⟨D0, D1, D2⟩ := dv_bd hc n0 n1 p0 p1
  have D3 := D2 (by omega)
  have e1 : (a == 0) = false := by simpa using ha
  have e2 : (n == d) = false := by simpa using fun h => hf h.symm
  have hU : nU a p n d = (a * d + p * (d - n) - 1) / (p * (d - n)) := by unfold nU; rw [Int.add_sub_assoc]
  rw [up_div (by omega)] at hU
  have hM : nM a p l n d = (nU a p n d + l - 1) / l * l := rfl
  have HE : nE a p l n d = (if nM a p l n d ≤ 1000000000000000 then 0 else 12) := by simp only [nE, if_pos h, if_neg ha, if_neg hf]
  have HV : nV a p l n d = (if nM a p l n d ≤ 1000000000000000 then nM a p l n d else 0) := by simp only [nV, HE, if_neg ha]; split <;> simp_all
  have hup := up_ge (x := nU a p n d) (show 0 < l by omega)
  rw [← hM] at hup
  rw [up_div (by omega)] at hM
  have T0 : 0 ≤ a * d := Int.mul_nonneg a0 (by omega)
  obtain ⟨s, hs⟩ : ∃ s, s = d - n := ⟨_, rfl⟩
  rw [← hs] at hU D0 D1 D3
  obtain ⟨D, hD⟩ : ∃ D, D = p * s := ⟨_, rfl⟩
  rw [← hD] at hU D0 D1 D3
  have wD : wrap64 (p * s) = D := by rw [← hD]; exact wrap_sm (by omega) (by omega)
  rw [← hs, ← hD] at hq hr
  have QU := fun w => hide (refquo_any a d D w a0 a1 (by omega) (by omega) (by omega) (by omega))
  unfold QuoPost at QU
  obtain ⟨X, hX⟩ : ∃ X, X = a * d := ⟨_, rfl⟩
  rw [← hX] at T0 hU QU hq hr
  have q0 : 0 ≤ X / D := Int.ediv_nonneg T0 (by omega)
  have r0 := Int.emod_nonneg X (show D ≠ 0 by omega)
  have es : d - n = s := hs.symm
  have HQ := hide (show qB X D = decide (X / D ≤ 2000000000000000) ∧ qV X D = (if X / D ≤ 2000000000000000 then X / D else 0) ∧ qR X D = (if X / D ≤ 2000000000000000 then X % D else 0) from ⟨rfl, rfl, rfl⟩)
  have le : (l == 0) = false := by simp; omega
  have u0 : 0 ≤ nU a p n d := by rw [hU]; split <;> omega
  have td : (nU a p n d).tdiv l = nU a p n d / l := Int.tdiv_eq_ediv_of_nonneg u0
  have tm : (nU a p n d).tmod l = nU a p n d % l := Int.tmod_eq_emod_of_nonneg u0
  have k0 : 0 ≤ nU a p n d / l := Int.ediv_nonneg u0 (by omega)
  have k1 : nU a p n d / l ≤ nU a p n d := Int.ediv_le_self _ u0
  obtain ⟨k, hk⟩ : ∃ k, k = nU a p n d / l := ⟨_, rfl⟩
  rw [← hk] at td k0 k1 hM
  obtain ⟨y, hy⟩ : ∃ y, y = nU a p n d % l := ⟨_, rfl⟩
  rw [← hy] at tm ht hM
  clear hk hy
  generalize nV a p l n d = V at *
  generalize nE a p l n d = E at *
  generalize nM a p l n d = M at *
  generalize nU a p n d = U at *
  generalize qV X D = V2 at *
  generalize qR X D = R2 at *
  generalize qB X D = B2 at *
  generalize X / D = Q at *
  generalize X % D = R at *
  rw [if_neg hr, Int.add_zero] at hU
  subst hU
  rw [if_neg ht, Int.add_zero] at hM
  have HR := hide (show V = 0 ∧ E = 12 by rw [HV, HE, if_neg (by omega), if_neg (by omega)]; exact ⟨rfl, rfl⟩)
  have QV := HQ.out
  rw [decide_eq_true hq, if_pos hq, if_pos hq] at QV
  rw [QV.1, QV.2.1, QV.2.2] at QU
  have wk : wrap64 (k * l) = M := by rw [← hM]; exact wrap_sm (by omega) (by omega)
  have WK := hide wk
  clear h hn hd ha hc D2 hM HE HV hup hs hD hX HQ hf QV
  go_enter Try.func8, Try.ntmps8
  go_wp2_with fail
  refine (C _).out.mono ?_
  rintro e w1 ⟨rfl, hb⟩
  have c0 := (hb.cell (p := ⟨w.heap.size, 0, none⟩) (by simp)).trans (show _ = some (Value.int .i64 n) by simp [go_sem])
  have c1 := (hb.cell (p := ⟨w.heap.size, 1, none⟩) (by simp)).trans (show _ = some (Value.int .i64 d) by simp [go_sem])
  have HB1 := hide (show Below w.heap.size w w1 from ((Below.refl w.heap.size w).alloc (Nat.le_refl _) _).trans (hb.mono (by simp)))
  clear hb
  go_wp2_with fail
  refine (QU _).out.mono ?_
  rintro e w2 ⟨rfl, k2, rfl⟩
  go_wp2_with fail
  go_ret2
  exact ⟨ret_vv HR.out.1.symm HR.out.2.symm, below_drewN HB1.out _⟩

set_option maxHeartbeats 2000000 in
theorem rneed_010 (a p l n d : Int) (w : World) (hn : I64 n) (hd : I64 d) (h : inN a p l n d) (ha : a ≠ 0) (hf : d ≠ n) (hq : a * d / (p * (d - n)) ≤ 2000000000000000) (hr : ¬ 0 < a * d % (p * (d - n))) (ht : 0 < nU a p n d % l) (hm : nM a p l n d ≤ 1000000000000000) :
    Calls Try.prog 8 #[.int .i64 a, .int .i64 p, .int .i64 l, .agg #[.int .i64 n, .int .i64 d]] w fun e w' => e = .returned (.tuple #[.int .i64 (nV a p l n d), .int .i64 (nE a p l n d)]) ∧ Below w.heap.size w w' := by
  have C := fun w => hide (fits_any p n d w hn hd)
  rw [show fitB p n d = true from decide_eq_true ⟨h.2.2.1, h.2.2.2⟩] at C
  obtain ⟨⟨a0, a1⟩, ⟨l0, l2⟩, ⟨p0, p1⟩, ⟨hc, n0, n1⟩⟩ := id h
  have l1 : ¬ l < 1 := by omega
  obtain ⟨d0, d1, _, _, _⟩ := ck_ok hc
  obtain ⟨D0, D1, D2⟩ := dv_bd hc n0 n1 p0 p1
  have D3 := D2 (by omega)
  have e1 : (a == 0) = false := by simpa using ha
  have e2 : (n == d) = false := by simpa using fun h => hf h.symm
  have hU : nU a p n d = (a * d + p * (d - n) - 1) / (p * (d - n)) := by unfold nU; rw [Int.add_sub_assoc]
  rw [up_div (by omega)] at hU
  have hM : nM a p l n d = (nU a p n d + l - 1) / l * l := rfl
  have HE : nE a p l n d = (if nM a p l n d ≤ 1000000000000000 then 0 else 12) := by simp only [nE, if_pos h, if_neg ha, if_neg hf]
  have HV : nV a p l n d = (if nM a p l n d ≤ 1000000000000000 then nM a p l n d else 0) := by simp only [nV, HE, if_neg ha]; split <;> simp_all
  have hup := up_ge (x := nU a p n d) (show 0 < l by omega)
  rw [← hM] at hup
  rw [up_div (by omega)] at hM
  have T0 : 0 ≤ a * d := Int.mul_nonneg a0 (by omega)
  obtain ⟨s, hs⟩ : ∃ s, s = d - n := ⟨_, rfl⟩
  rw [← hs] at hU D0 D1 D3
  obtain ⟨D, hD⟩ : ∃ D, D = p * s := ⟨_, rfl⟩
  rw [← hD] at hU D0 D1 D3
  have wD : wrap64 (p * s) = D := by rw [← hD]; exact wrap_sm (by omega) (by omega)
  rw [← hs, ← hD] at hq hr
  have QU := fun w => hide (refquo_any a d D w a0 a1 (by omega) (by omega) (by omega) (by omega))
  unfold QuoPost at QU
  obtain ⟨X, hX⟩ : ∃ X, X = a * d := ⟨_, rfl⟩
  rw [← hX] at T0 hU QU hq hr
  have q0 : 0 ≤ X / D := Int.ediv_nonneg T0 (by omega)
  have r0 := Int.emod_nonneg X (show D ≠ 0 by omega)
  have es : d - n = s := hs.symm
  have HQ := hide (show qB X D = decide (X / D ≤ 2000000000000000) ∧ qV X D = (if X / D ≤ 2000000000000000 then X / D else 0) ∧ qR X D = (if X / D ≤ 2000000000000000 then X % D else 0) from ⟨rfl, rfl, rfl⟩)
  have le : (l == 0) = false := by simp; omega
  have u0 : 0 ≤ nU a p n d := by rw [hU]; split <;> omega
  have td : (nU a p n d).tdiv l = nU a p n d / l := Int.tdiv_eq_ediv_of_nonneg u0
  have tm : (nU a p n d).tmod l = nU a p n d % l := Int.tmod_eq_emod_of_nonneg u0
  have k0 : 0 ≤ nU a p n d / l := Int.ediv_nonneg u0 (by omega)
  have k1 : nU a p n d / l ≤ nU a p n d := Int.ediv_le_self _ u0
  obtain ⟨k, hk⟩ : ∃ k, k = nU a p n d / l := ⟨_, rfl⟩
  rw [← hk] at td k0 k1 hM
  obtain ⟨y, hy⟩ : ∃ y, y = nU a p n d % l := ⟨_, rfl⟩
  rw [← hy] at tm ht hM
  clear hk hy
  generalize nV a p l n d = V at *
  generalize nE a p l n d = E at *
  generalize nM a p l n d = M at *
  generalize nU a p n d = U at *
  generalize qV X D = V2 at *
  generalize qR X D = R2 at *
  generalize qB X D = B2 at *
  generalize X / D = Q at *
  generalize X % D = R at *
  rw [if_neg hr, Int.add_zero] at hU
  subst hU
  rw [if_pos ht] at hM
  have HR := hide (show V = M ∧ E = 0 by rw [HV, HE, if_pos hm, if_pos hm]; exact ⟨rfl, rfl⟩)
  have QV := HQ.out
  rw [decide_eq_true hq, if_pos hq, if_pos hq] at QV
  rw [QV.1, QV.2.1, QV.2.2] at QU
  have wk : wrap64 ((k + 1) * l) = M := by rw [← hM]; exact wrap_sm (by omega) (by omega)
  have WK := hide wk
  clear h hn hd ha hc D2 hM HE HV hup hs hD hX HQ hf QV
  go_enter Try.func8, Try.ntmps8
  go_wp2_with fail
  refine (C _).out.mono ?_
  rintro e w1 ⟨rfl, hb⟩
  have c0 := (hb.cell (p := ⟨w.heap.size, 0, none⟩) (by simp)).trans (show _ = some (Value.int .i64 n) by simp [go_sem])
  have c1 := (hb.cell (p := ⟨w.heap.size, 1, none⟩) (by simp)).trans (show _ = some (Value.int .i64 d) by simp [go_sem])
  have HB1 := hide (show Below w.heap.size w w1 from ((Below.refl w.heap.size w).alloc (Nat.le_refl _) _).trans (hb.mono (by simp)))
  clear hb
  go_wp2_with fail
  refine (QU _).out.mono ?_
  rintro e w2 ⟨rfl, k2, rfl⟩
  go_wp2_with fail
  go_ret2
  first
    | exact ⟨ret_vv HR.out.1.symm HR.out.2.symm, below_drewN HB1.out _⟩
    | exact ⟨ret_vv (WK.out.trans HR.out.1.symm) HR.out.2.symm, below_drewN HB1.out _⟩

set_option maxHeartbeats 2000000 in
theorem rneed_011 (a p l n d : Int) (w : World) (hn : I64 n) (hd : I64 d) (h : inN a p l n d) (ha : a ≠ 0) (hf : d ≠ n) (hq : a * d / (p * (d - n)) ≤ 2000000000000000) (hr : ¬ 0 < a * d % (p * (d - n))) (ht : 0 < nU a p n d % l) (hm : 1000000000000000 < nM a p l n d) :
    Calls Try.prog 8 #[.int .i64 a, .int .i64 p, .int .i64 l, .agg #[.int .i64 n, .int .i64 d]] w fun e w' => e = .returned (.tuple #[.int .i64 (nV a p l n d), .int .i64 (nE a p l n d)]) ∧ Below w.heap.size w w' := by
  have C := fun w => hide (fits_any p n d w hn hd)
  rw [show fitB p n d = true from decide_eq_true ⟨h.2.2.1, h.2.2.2⟩] at C
  obtain ⟨⟨a0, a1⟩, ⟨l0, l2⟩, ⟨p0, p1⟩, ⟨hc, n0, n1⟩⟩ := id h
  have l1 : ¬ l < 1 := by omega
  obtain ⟨d0, d1, _, _, _⟩ := ck_ok hc
  obtain ⟨D0, D1, D2⟩ := dv_bd hc n0 n1 p0 p1
  have D3 := D2 (by omega)
  have e1 : (a == 0) = false := by simpa using ha
  have e2 : (n == d) = false := by simpa using fun h => hf h.symm
  have hU : nU a p n d = (a * d + p * (d - n) - 1) / (p * (d - n)) := by unfold nU; rw [Int.add_sub_assoc]
  rw [up_div (by omega)] at hU
  have hM : nM a p l n d = (nU a p n d + l - 1) / l * l := rfl
  have HE : nE a p l n d = (if nM a p l n d ≤ 1000000000000000 then 0 else 12) := by simp only [nE, if_pos h, if_neg ha, if_neg hf]
  have HV : nV a p l n d = (if nM a p l n d ≤ 1000000000000000 then nM a p l n d else 0) := by simp only [nV, HE, if_neg ha]; split <;> simp_all
  have hup := up_ge (x := nU a p n d) (show 0 < l by omega)
  rw [← hM] at hup
  rw [up_div (by omega)] at hM
  have T0 : 0 ≤ a * d := Int.mul_nonneg a0 (by omega)
  obtain ⟨s, hs⟩ : ∃ s, s = d - n := ⟨_, rfl⟩
  rw [← hs] at hU D0 D1 D3
  obtain ⟨D, hD⟩ : ∃ D, D = p * s := ⟨_, rfl⟩
  rw [← hD] at hU D0 D1 D3
  have wD : wrap64 (p * s) = D := by rw [← hD]; exact wrap_sm (by omega) (by omega)
  rw [← hs, ← hD] at hq hr
  have QU := fun w => hide (refquo_any a d D w a0 a1 (by omega) (by omega) (by omega) (by omega))
  unfold QuoPost at QU
  obtain ⟨X, hX⟩ : ∃ X, X = a * d := ⟨_, rfl⟩
  rw [← hX] at T0 hU QU hq hr
  have q0 : 0 ≤ X / D := Int.ediv_nonneg T0 (by omega)
  have r0 := Int.emod_nonneg X (show D ≠ 0 by omega)
  have es : d - n = s := hs.symm
  have HQ := hide (show qB X D = decide (X / D ≤ 2000000000000000) ∧ qV X D = (if X / D ≤ 2000000000000000 then X / D else 0) ∧ qR X D = (if X / D ≤ 2000000000000000 then X % D else 0) from ⟨rfl, rfl, rfl⟩)
  have le : (l == 0) = false := by simp; omega
  have u0 : 0 ≤ nU a p n d := by rw [hU]; split <;> omega
  have td : (nU a p n d).tdiv l = nU a p n d / l := Int.tdiv_eq_ediv_of_nonneg u0
  have tm : (nU a p n d).tmod l = nU a p n d % l := Int.tmod_eq_emod_of_nonneg u0
  have k0 : 0 ≤ nU a p n d / l := Int.ediv_nonneg u0 (by omega)
  have k1 : nU a p n d / l ≤ nU a p n d := Int.ediv_le_self _ u0
  obtain ⟨k, hk⟩ : ∃ k, k = nU a p n d / l := ⟨_, rfl⟩
  rw [← hk] at td k0 k1 hM
  obtain ⟨y, hy⟩ : ∃ y, y = nU a p n d % l := ⟨_, rfl⟩
  rw [← hy] at tm ht hM
  clear hk hy
  generalize nV a p l n d = V at *
  generalize nE a p l n d = E at *
  generalize nM a p l n d = M at *
  generalize nU a p n d = U at *
  generalize qV X D = V2 at *
  generalize qR X D = R2 at *
  generalize qB X D = B2 at *
  generalize X / D = Q at *
  generalize X % D = R at *
  rw [if_neg hr, Int.add_zero] at hU
  subst hU
  rw [if_pos ht] at hM
  have HR := hide (show V = 0 ∧ E = 12 by rw [HV, HE, if_neg (by omega), if_neg (by omega)]; exact ⟨rfl, rfl⟩)
  have QV := HQ.out
  rw [decide_eq_true hq, if_pos hq, if_pos hq] at QV
  rw [QV.1, QV.2.1, QV.2.2] at QU
  have wk : wrap64 ((k + 1) * l) = M := by rw [← hM]; exact wrap_sm (by omega) (by omega)
  have WK := hide wk
  clear h hn hd ha hc D2 hM HE HV hup hs hD hX HQ hf QV
  go_enter Try.func8, Try.ntmps8
  go_wp2_with fail
  refine (C _).out.mono ?_
  rintro e w1 ⟨rfl, hb⟩
  have c0 := (hb.cell (p := ⟨w.heap.size, 0, none⟩) (by simp)).trans (show _ = some (Value.int .i64 n) by simp [go_sem])
  have c1 := (hb.cell (p := ⟨w.heap.size, 1, none⟩) (by simp)).trans (show _ = some (Value.int .i64 d) by simp [go_sem])
  have HB1 := hide (show Below w.heap.size w w1 from ((Below.refl w.heap.size w).alloc (Nat.le_refl _) _).trans (hb.mono (by simp)))
  clear hb
  go_wp2_with fail
  refine (QU _).out.mono ?_
  rintro e w2 ⟨rfl, k2, rfl⟩
  go_wp2_with fail
  go_ret2
  exact ⟨ret_vv HR.out.1.symm HR.out.2.symm, below_drewN HB1.out _⟩

set_option maxHeartbeats 2000000 in
theorem rneed_100 (a p l n d : Int) (w : World) (hn : I64 n) (hd : I64 d) (h : inN a p l n d) (ha : a ≠ 0) (hf : d ≠ n) (hq : a * d / (p * (d - n)) ≤ 2000000000000000) (hr : 0 < a * d % (p * (d - n))) (ht : ¬ 0 < nU a p n d % l) (hm : nM a p l n d ≤ 1000000000000000) :
    Calls Try.prog 8 #[.int .i64 a, .int .i64 p, .int .i64 l, .agg #[.int .i64 n, .int .i64 d]] w fun e w' => e = .returned (.tuple #[.int .i64 (nV a p l n d), .int .i64 (nE a p l n d)]) ∧ Below w.heap.size w w' := by
  have C := fun w => hide (fits_any p n d w hn hd)
  rw [show fitB p n d = true from decide_eq_true ⟨h.2.2.1, h.2.2.2⟩] at C
  obtain ⟨⟨a0, a1⟩, ⟨l0, l2⟩, ⟨p0, p1⟩, ⟨hc, n0, n1⟩⟩ := id h
  have l1 : ¬ l < 1 := by omega
  obtain ⟨d0, d1, _, _, _⟩ := ck_ok hc
  obtain ⟨D0, D1, D2⟩ := dv_bd hc n0 n1 p0 p1
  have D3 := D2 (by omega)
  have e1 : (a == 0) = false := by simpa using ha
  have e2 : (n == d) = false := by simpa using fun h => hf h.symm
  have hU : nU a p n d = (a * d + p * (d - n) - 1) / (p * (d - n)) := by unfold nU; rw [Int.add_sub_assoc]
  rw [up_div (by omega)] at hU
  have hM : nM a p l n d = (nU a p n d + l - 1) / l * l := rfl
  have HE : nE a p l n d = (if nM a p l n d ≤ 1000000000000000 then 0 else 12) := by simp only [nE, if_pos h, if_neg ha, if_neg hf]
  have HV : nV a p l n d = (if nM a p l n d ≤ 1000000000000000 then nM a p l n d else 0) := by simp only [nV, HE, if_neg ha]; split <;> simp_all
  have hup := up_ge (x := nU a p n d) (show 0 < l by omega)
  rw [← hM] at hup
  rw [up_div (by omega)] at hM
  have T0 : 0 ≤ a * d := Int.mul_nonneg a0 (by omega)
  obtain ⟨s, hs⟩ : ∃ s, s = d - n := ⟨_, rfl⟩
  rw [← hs] at hU D0 D1 D3
  obtain ⟨D, hD⟩ : ∃ D, D = p * s := ⟨_, rfl⟩
  rw [← hD] at hU D0 D1 D3
  have wD : wrap64 (p * s) = D := by rw [← hD]; exact wrap_sm (by omega) (by omega)
  rw [← hs, ← hD] at hq hr
  have QU := fun w => hide (refquo_any a d D w a0 a1 (by omega) (by omega) (by omega) (by omega))
  unfold QuoPost at QU
  obtain ⟨X, hX⟩ : ∃ X, X = a * d := ⟨_, rfl⟩
  rw [← hX] at T0 hU QU hq hr
  have q0 : 0 ≤ X / D := Int.ediv_nonneg T0 (by omega)
  have r0 := Int.emod_nonneg X (show D ≠ 0 by omega)
  have es : d - n = s := hs.symm
  have HQ := hide (show qB X D = decide (X / D ≤ 2000000000000000) ∧ qV X D = (if X / D ≤ 2000000000000000 then X / D else 0) ∧ qR X D = (if X / D ≤ 2000000000000000 then X % D else 0) from ⟨rfl, rfl, rfl⟩)
  have le : (l == 0) = false := by simp; omega
  have u0 : 0 ≤ nU a p n d := by rw [hU]; split <;> omega
  have td : (nU a p n d).tdiv l = nU a p n d / l := Int.tdiv_eq_ediv_of_nonneg u0
  have tm : (nU a p n d).tmod l = nU a p n d % l := Int.tmod_eq_emod_of_nonneg u0
  have k0 : 0 ≤ nU a p n d / l := Int.ediv_nonneg u0 (by omega)
  have k1 : nU a p n d / l ≤ nU a p n d := Int.ediv_le_self _ u0
  obtain ⟨k, hk⟩ : ∃ k, k = nU a p n d / l := ⟨_, rfl⟩
  rw [← hk] at td k0 k1 hM
  obtain ⟨y, hy⟩ : ∃ y, y = nU a p n d % l := ⟨_, rfl⟩
  rw [← hy] at tm ht hM
  clear hk hy
  generalize nV a p l n d = V at *
  generalize nE a p l n d = E at *
  generalize nM a p l n d = M at *
  generalize nU a p n d = U at *
  generalize qV X D = V2 at *
  generalize qR X D = R2 at *
  generalize qB X D = B2 at *
  generalize X / D = Q at *
  generalize X % D = R at *
  rw [if_pos hr] at hU
  have qU : Q + 1 = U := hU.symm
  rw [if_neg ht, Int.add_zero] at hM
  have HR := hide (show V = M ∧ E = 0 by rw [HV, HE, if_pos hm, if_pos hm]; exact ⟨rfl, rfl⟩)
  have QV := HQ.out
  rw [decide_eq_true hq, if_pos hq, if_pos hq] at QV
  rw [QV.1, QV.2.1, QV.2.2] at QU
  have wk : wrap64 (k * l) = M := by rw [← hM]; exact wrap_sm (by omega) (by omega)
  have WK := hide wk
  clear h hn hd ha hc D2 hU hM HE HV hup hs hD hX HQ hf QV
  go_enter Try.func8, Try.ntmps8
  go_wp2_with fail
  refine (C _).out.mono ?_
  rintro e w1 ⟨rfl, hb⟩
  have c0 := (hb.cell (p := ⟨w.heap.size, 0, none⟩) (by simp)).trans (show _ = some (Value.int .i64 n) by simp [go_sem])
  have c1 := (hb.cell (p := ⟨w.heap.size, 1, none⟩) (by simp)).trans (show _ = some (Value.int .i64 d) by simp [go_sem])
  have HB1 := hide (show Below w.heap.size w w1 from ((Below.refl w.heap.size w).alloc (Nat.le_refl _) _).trans (hb.mono (by simp)))
  clear hb
  go_wp2_with fail
  refine (QU _).out.mono ?_
  rintro e w2 ⟨rfl, k2, rfl⟩
  go_wp2_with fail
  go_ret2
  first
    | exact ⟨ret_vv HR.out.1.symm HR.out.2.symm, below_drewN HB1.out _⟩
    | exact ⟨ret_vv (WK.out.trans HR.out.1.symm) HR.out.2.symm, below_drewN HB1.out _⟩

set_option maxHeartbeats 2000000 in
theorem rneed_101 (a p l n d : Int) (w : World) (hn : I64 n) (hd : I64 d) (h : inN a p l n d) (ha : a ≠ 0) (hf : d ≠ n) (hq : a * d / (p * (d - n)) ≤ 2000000000000000) (hr : 0 < a * d % (p * (d - n))) (ht : ¬ 0 < nU a p n d % l) (hm : 1000000000000000 < nM a p l n d) :
    Calls Try.prog 8 #[.int .i64 a, .int .i64 p, .int .i64 l, .agg #[.int .i64 n, .int .i64 d]] w fun e w' => e = .returned (.tuple #[.int .i64 (nV a p l n d), .int .i64 (nE a p l n d)]) ∧ Below w.heap.size w w' := by
  have C := fun w => hide (fits_any p n d w hn hd)
  rw [show fitB p n d = true from decide_eq_true ⟨h.2.2.1, h.2.2.2⟩] at C
  obtain ⟨⟨a0, a1⟩, ⟨l0, l2⟩, ⟨p0, p1⟩, ⟨hc, n0, n1⟩⟩ := id h
  have l1 : ¬ l < 1 := by omega
  obtain ⟨d0, d1, _, _, _⟩ := ck_ok hc
  obtain ⟨D0, D1, D2⟩ := dv_bd hc n0 n1 p0 p1
  have D3 := D2 (by omega)
  have e1 : (a == 0) = false := by simpa using ha
  have e2 : (n == d) = false := by simpa using fun h => hf h.symm
  have hU : nU a p n d = (a * d + p * (d - n) - 1) / (p * (d - n)) := by unfold nU; rw [Int.add_sub_assoc]
  rw [up_div (by omega)] at hU
  have hM : nM a p l n d = (nU a p n d + l - 1) / l * l := rfl
  have HE : nE a p l n d = (if nM a p l n d ≤ 1000000000000000 then 0 else 12) := by simp only [nE, if_pos h, if_neg ha, if_neg hf]
  have HV : nV a p l n d = (if nM a p l n d ≤ 1000000000000000 then nM a p l n d else 0) := by simp only [nV, HE, if_neg ha]; split <;> simp_all
  have hup := up_ge (x := nU a p n d) (show 0 < l by omega)
  rw [← hM] at hup
  rw [up_div (by omega)] at hM
  have T0 : 0 ≤ a * d := Int.mul_nonneg a0 (by omega)
  obtain ⟨s, hs⟩ : ∃ s, s = d - n := ⟨_, rfl⟩
  rw [← hs] at hU D0 D1 D3
  obtain ⟨D, hD⟩ : ∃ D, D = p * s := ⟨_, rfl⟩
  rw [← hD] at hU D0 D1 D3
  have wD : wrap64 (p * s) = D := by rw [← hD]; exact wrap_sm (by omega) (by omega)
  rw [← hs, ← hD] at hq hr
  have QU := fun w => hide (refquo_any a d D w a0 a1 (by omega) (by omega) (by omega) (by omega))
  unfold QuoPost at QU
  obtain ⟨X, hX⟩ : ∃ X, X = a * d := ⟨_, rfl⟩
  rw [← hX] at T0 hU QU hq hr
  have q0 : 0 ≤ X / D := Int.ediv_nonneg T0 (by omega)
  have r0 := Int.emod_nonneg X (show D ≠ 0 by omega)
  have es : d - n = s := hs.symm
  have HQ := hide (show qB X D = decide (X / D ≤ 2000000000000000) ∧ qV X D = (if X / D ≤ 2000000000000000 then X / D else 0) ∧ qR X D = (if X / D ≤ 2000000000000000 then X % D else 0) from ⟨rfl, rfl, rfl⟩)
  have le : (l == 0) = false := by simp; omega
  have u0 : 0 ≤ nU a p n d := by rw [hU]; split <;> omega
  have td : (nU a p n d).tdiv l = nU a p n d / l := Int.tdiv_eq_ediv_of_nonneg u0
  have tm : (nU a p n d).tmod l = nU a p n d % l := Int.tmod_eq_emod_of_nonneg u0
  have k0 : 0 ≤ nU a p n d / l := Int.ediv_nonneg u0 (by omega)
  have k1 : nU a p n d / l ≤ nU a p n d := Int.ediv_le_self _ u0
  obtain ⟨k, hk⟩ : ∃ k, k = nU a p n d / l := ⟨_, rfl⟩
  rw [← hk] at td k0 k1 hM
  obtain ⟨y, hy⟩ : ∃ y, y = nU a p n d % l := ⟨_, rfl⟩
  rw [← hy] at tm ht hM
  clear hk hy
  generalize nV a p l n d = V at *
  generalize nE a p l n d = E at *
  generalize nM a p l n d = M at *
  generalize nU a p n d = U at *
  generalize qV X D = V2 at *
  generalize qR X D = R2 at *
  generalize qB X D = B2 at *
  generalize X / D = Q at *
  generalize X % D = R at *
  rw [if_pos hr] at hU
  have qU : Q + 1 = U := hU.symm
  rw [if_neg ht, Int.add_zero] at hM
  have HR := hide (show V = 0 ∧ E = 12 by rw [HV, HE, if_neg (by omega), if_neg (by omega)]; exact ⟨rfl, rfl⟩)
  have QV := HQ.out
  rw [decide_eq_true hq, if_pos hq, if_pos hq] at QV
  rw [QV.1, QV.2.1, QV.2.2] at QU
  have wk : wrap64 (k * l) = M := by rw [← hM]; exact wrap_sm (by omega) (by omega)
  have WK := hide wk
  clear h hn hd ha hc D2 hU hM HE HV hup hs hD hX HQ hf QV
  go_enter Try.func8, Try.ntmps8
  go_wp2_with fail
  refine (C _).out.mono ?_
  rintro e w1 ⟨rfl, hb⟩
  have c0 := (hb.cell (p := ⟨w.heap.size, 0, none⟩) (by simp)).trans (show _ = some (Value.int .i64 n) by simp [go_sem])
  have c1 := (hb.cell (p := ⟨w.heap.size, 1, none⟩) (by simp)).trans (show _ = some (Value.int .i64 d) by simp [go_sem])
  have HB1 := hide (show Below w.heap.size w w1 from ((Below.refl w.heap.size w).alloc (Nat.le_refl _) _).trans (hb.mono (by simp)))
  clear hb
  go_wp2_with fail
  refine (QU _).out.mono ?_
  rintro e w2 ⟨rfl, k2, rfl⟩
  go_wp2_with fail
  go_ret2
  exact ⟨ret_vv HR.out.1.symm HR.out.2.symm, below_drewN HB1.out _⟩

set_option maxHeartbeats 2000000 in
theorem rneed_110 (a p l n d : Int) (w : World) (hn : I64 n) (hd : I64 d) (h : inN a p l n d) (ha : a ≠ 0) (hf : d ≠ n) (hq : a * d / (p * (d - n)) ≤ 2000000000000000) (hr : 0 < a * d % (p * (d - n))) (ht : 0 < nU a p n d % l) (hm : nM a p l n d ≤ 1000000000000000) :
    Calls Try.prog 8 #[.int .i64 a, .int .i64 p, .int .i64 l, .agg #[.int .i64 n, .int .i64 d]] w fun e w' => e = .returned (.tuple #[.int .i64 (nV a p l n d), .int .i64 (nE a p l n d)]) ∧ Below w.heap.size w w' := by
  have C := fun w => hide (fits_any p n d w hn hd)
  rw [show fitB p n d = true from decide_eq_true ⟨h.2.2.1, h.2.2.2⟩] at C
  obtain ⟨⟨a0, a1⟩, ⟨l0, l2⟩, ⟨p0, p1⟩, ⟨hc, n0, n1⟩⟩ := id h
  have l1 : ¬ l < 1 := by omega
  obtain ⟨d0, d1, _, _, _⟩ := ck_ok hc
  obtain ⟨D0, D1, D2⟩ := dv_bd hc n0 n1 p0 p1
  have D3 := D2 (by omega)
  have e1 : (a == 0) = false := by simpa using ha
  have e2 : (n == d) = false := by simpa using fun h => hf h.symm
  have hU : nU a p n d = (a * d + p * (d - n) - 1) / (p * (d - n)) := by unfold nU; rw [Int.add_sub_assoc]
  rw [up_div (by omega)] at hU
  have hM : nM a p l n d = (nU a p n d + l - 1) / l * l := rfl
  have HE : nE a p l n d = (if nM a p l n d ≤ 1000000000000000 then 0 else 12) := by simp only [nE, if_pos h, if_neg ha, if_neg hf]
  have HV : nV a p l n d = (if nM a p l n d ≤ 1000000000000000 then nM a p l n d else 0) := by simp only [nV, HE, if_neg ha]; split <;> simp_all
  have hup := up_ge (x := nU a p n d) (show 0 < l by omega)
  rw [← hM] at hup
  rw [up_div (by omega)] at hM
  have T0 : 0 ≤ a * d := Int.mul_nonneg a0 (by omega)
  obtain ⟨s, hs⟩ : ∃ s, s = d - n := ⟨_, rfl⟩
  rw [← hs] at hU D0 D1 D3
  obtain ⟨D, hD⟩ : ∃ D, D = p * s := ⟨_, rfl⟩
  rw [← hD] at hU D0 D1 D3
  have wD : wrap64 (p * s) = D := by rw [← hD]; exact wrap_sm (by omega) (by omega)
  rw [← hs, ← hD] at hq hr
  have QU := fun w => hide (refquo_any a d D w a0 a1 (by omega) (by omega) (by omega) (by omega))
  unfold QuoPost at QU
  obtain ⟨X, hX⟩ : ∃ X, X = a * d := ⟨_, rfl⟩
  rw [← hX] at T0 hU QU hq hr
  have q0 : 0 ≤ X / D := Int.ediv_nonneg T0 (by omega)
  have r0 := Int.emod_nonneg X (show D ≠ 0 by omega)
  have es : d - n = s := hs.symm
  have HQ := hide (show qB X D = decide (X / D ≤ 2000000000000000) ∧ qV X D = (if X / D ≤ 2000000000000000 then X / D else 0) ∧ qR X D = (if X / D ≤ 2000000000000000 then X % D else 0) from ⟨rfl, rfl, rfl⟩)
  have le : (l == 0) = false := by simp; omega
  have u0 : 0 ≤ nU a p n d := by rw [hU]; split <;> omega
  have td : (nU a p n d).tdiv l = nU a p n d / l := Int.tdiv_eq_ediv_of_nonneg u0
  have tm : (nU a p n d).tmod l = nU a p n d % l := Int.tmod_eq_emod_of_nonneg u0
  have k0 : 0 ≤ nU a p n d / l := Int.ediv_nonneg u0 (by omega)
  have k1 : nU a p n d / l ≤ nU a p n d := Int.ediv_le_self _ u0
  obtain ⟨k, hk⟩ : ∃ k, k = nU a p n d / l := ⟨_, rfl⟩
  rw [← hk] at td k0 k1 hM
  obtain ⟨y, hy⟩ : ∃ y, y = nU a p n d % l := ⟨_, rfl⟩
  rw [← hy] at tm ht hM
  clear hk hy
  generalize nV a p l n d = V at *
  generalize nE a p l n d = E at *
  generalize nM a p l n d = M at *
  generalize nU a p n d = U at *
  generalize qV X D = V2 at *
  generalize qR X D = R2 at *
  generalize qB X D = B2 at *
  generalize X / D = Q at *
  generalize X % D = R at *
  rw [if_pos hr] at hU
  have qU : Q + 1 = U := hU.symm
  rw [if_pos ht] at hM
  have HR := hide (show V = M ∧ E = 0 by rw [HV, HE, if_pos hm, if_pos hm]; exact ⟨rfl, rfl⟩)
  have QV := HQ.out
  rw [decide_eq_true hq, if_pos hq, if_pos hq] at QV
  rw [QV.1, QV.2.1, QV.2.2] at QU
  have wk : wrap64 ((k + 1) * l) = M := by rw [← hM]; exact wrap_sm (by omega) (by omega)
  have WK := hide wk
  clear h hn hd ha hc D2 hU hM HE HV hup hs hD hX HQ hf QV
  go_enter Try.func8, Try.ntmps8
  go_wp2_with fail
  refine (C _).out.mono ?_
  rintro e w1 ⟨rfl, hb⟩
  have c0 := (hb.cell (p := ⟨w.heap.size, 0, none⟩) (by simp)).trans (show _ = some (Value.int .i64 n) by simp [go_sem])
  have c1 := (hb.cell (p := ⟨w.heap.size, 1, none⟩) (by simp)).trans (show _ = some (Value.int .i64 d) by simp [go_sem])
  have HB1 := hide (show Below w.heap.size w w1 from ((Below.refl w.heap.size w).alloc (Nat.le_refl _) _).trans (hb.mono (by simp)))
  clear hb
  go_wp2_with fail
  refine (QU _).out.mono ?_
  rintro e w2 ⟨rfl, k2, rfl⟩
  go_wp2_with fail
  go_ret2
  first
    | exact ⟨ret_vv HR.out.1.symm HR.out.2.symm, below_drewN HB1.out _⟩
    | exact ⟨ret_vv (WK.out.trans HR.out.1.symm) HR.out.2.symm, below_drewN HB1.out _⟩

set_option maxHeartbeats 2000000 in
theorem rneed_111 (a p l n d : Int) (w : World) (hn : I64 n) (hd : I64 d) (h : inN a p l n d) (ha : a ≠ 0) (hf : d ≠ n) (hq : a * d / (p * (d - n)) ≤ 2000000000000000) (hr : 0 < a * d % (p * (d - n))) (ht : 0 < nU a p n d % l) (hm : 1000000000000000 < nM a p l n d) :
    Calls Try.prog 8 #[.int .i64 a, .int .i64 p, .int .i64 l, .agg #[.int .i64 n, .int .i64 d]] w fun e w' => e = .returned (.tuple #[.int .i64 (nV a p l n d), .int .i64 (nE a p l n d)]) ∧ Below w.heap.size w w' := by
  have C := fun w => hide (fits_any p n d w hn hd)
  rw [show fitB p n d = true from decide_eq_true ⟨h.2.2.1, h.2.2.2⟩] at C
  obtain ⟨⟨a0, a1⟩, ⟨l0, l2⟩, ⟨p0, p1⟩, ⟨hc, n0, n1⟩⟩ := id h
  have l1 : ¬ l < 1 := by omega
  obtain ⟨d0, d1, _, _, _⟩ := ck_ok hc
  obtain ⟨D0, D1, D2⟩ := dv_bd hc n0 n1 p0 p1
  have D3 := D2 (by omega)
  have e1 : (a == 0) = false := by simpa using ha
  have e2 : (n == d) = false := by simpa using fun h => hf h.symm
  have hU : nU a p n d = (a * d + p * (d - n) - 1) / (p * (d - n)) := by unfold nU; rw [Int.add_sub_assoc]
  rw [up_div (by omega)] at hU
  have hM : nM a p l n d = (nU a p n d + l - 1) / l * l := rfl
  have HE : nE a p l n d = (if nM a p l n d ≤ 1000000000000000 then 0 else 12) := by simp only [nE, if_pos h, if_neg ha, if_neg hf]
  have HV : nV a p l n d = (if nM a p l n d ≤ 1000000000000000 then nM a p l n d else 0) := by simp only [nV, HE, if_neg ha]; split <;> simp_all
  have hup := up_ge (x := nU a p n d) (show 0 < l by omega)
  rw [← hM] at hup
  rw [up_div (by omega)] at hM
  have T0 : 0 ≤ a * d := Int.mul_nonneg a0 (by omega)
  obtain ⟨s, hs⟩ : ∃ s, s = d - n := ⟨_, rfl⟩
  rw [← hs] at hU D0 D1 D3
  obtain ⟨D, hD⟩ : ∃ D, D = p * s := ⟨_, rfl⟩
  rw [← hD] at hU D0 D1 D3
  have wD : wrap64 (p * s) = D := by rw [← hD]; exact wrap_sm (by omega) (by omega)
  rw [← hs, ← hD] at hq hr
  have QU := fun w => hide (refquo_any a d D w a0 a1 (by omega) (by omega) (by omega) (by omega))
  unfold QuoPost at QU
  obtain ⟨X, hX⟩ : ∃ X, X = a * d := ⟨_, rfl⟩
  rw [← hX] at T0 hU QU hq hr
  have q0 : 0 ≤ X / D := Int.ediv_nonneg T0 (by omega)
  have r0 := Int.emod_nonneg X (show D ≠ 0 by omega)
  have es : d - n = s := hs.symm
  have HQ := hide (show qB X D = decide (X / D ≤ 2000000000000000) ∧ qV X D = (if X / D ≤ 2000000000000000 then X / D else 0) ∧ qR X D = (if X / D ≤ 2000000000000000 then X % D else 0) from ⟨rfl, rfl, rfl⟩)
  have le : (l == 0) = false := by simp; omega
  have u0 : 0 ≤ nU a p n d := by rw [hU]; split <;> omega
  have td : (nU a p n d).tdiv l = nU a p n d / l := Int.tdiv_eq_ediv_of_nonneg u0
  have tm : (nU a p n d).tmod l = nU a p n d % l := Int.tmod_eq_emod_of_nonneg u0
  have k0 : 0 ≤ nU a p n d / l := Int.ediv_nonneg u0 (by omega)
  have k1 : nU a p n d / l ≤ nU a p n d := Int.ediv_le_self _ u0
  obtain ⟨k, hk⟩ : ∃ k, k = nU a p n d / l := ⟨_, rfl⟩
  rw [← hk] at td k0 k1 hM
  obtain ⟨y, hy⟩ : ∃ y, y = nU a p n d % l := ⟨_, rfl⟩
  rw [← hy] at tm ht hM
  clear hk hy
  generalize nV a p l n d = V at *
  generalize nE a p l n d = E at *
  generalize nM a p l n d = M at *
  generalize nU a p n d = U at *
  generalize qV X D = V2 at *
  generalize qR X D = R2 at *
  generalize qB X D = B2 at *
  generalize X / D = Q at *
  generalize X % D = R at *
  rw [if_pos hr] at hU
  have qU : Q + 1 = U := hU.symm
  rw [if_pos ht] at hM
  have HR := hide (show V = 0 ∧ E = 12 by rw [HV, HE, if_neg (by omega), if_neg (by omega)]; exact ⟨rfl, rfl⟩)
  have QV := HQ.out
  rw [decide_eq_true hq, if_pos hq, if_pos hq] at QV
  rw [QV.1, QV.2.1, QV.2.2] at QU
  have wk : wrap64 ((k + 1) * l) = M := by rw [← hM]; exact wrap_sm (by omega) (by omega)
  have WK := hide wk
  clear h hn hd ha hc D2 hU hM HE HV hup hs hD hX HQ hf QV
  go_enter Try.func8, Try.ntmps8
  go_wp2_with fail
  refine (C _).out.mono ?_
  rintro e w1 ⟨rfl, hb⟩
  have c0 := (hb.cell (p := ⟨w.heap.size, 0, none⟩) (by simp)).trans (show _ = some (Value.int .i64 n) by simp [go_sem])
  have c1 := (hb.cell (p := ⟨w.heap.size, 1, none⟩) (by simp)).trans (show _ = some (Value.int .i64 d) by simp [go_sem])
  have HB1 := hide (show Below w.heap.size w w1 from ((Below.refl w.heap.size w).alloc (Nat.le_refl _) _).trans (hb.mono (by simp)))
  clear hb
  go_wp2_with fail
  refine (QU _).out.mono ?_
  rintro e w2 ⟨rfl, k2, rfl⟩
  go_wp2_with fail
  go_ret2
  exact ⟨ret_vv HR.out.1.symm HR.out.2.symm, below_drewN HB1.out _⟩

theorem rneed_any (a p l n d : Int) (w : World) (hn : I64 n) (hd : I64 d)  :
    Calls Try.prog 8 #[.int .i64 a, .int .i64 p, .int .i64 l, .agg #[.int .i64 n, .int .i64 d]] w fun e w' => e = .returned (.tuple #[.int .i64 (nV a p l n d), .int .i64 (nE a p l n d)]) ∧ Below w.heap.size w w' := by
  by_cases h : inN a p l n d
  · by_cases ha : a = 0
    · exact rneed_zero a p l n d w hn hd h ha
    · by_cases hf : d = n
      · exact rneed_full a p l n d w hn hd h ha hf
      · by_cases hq : a * d / (p * (d - n)) ≤ 2000000000000000
        · by_cases hr : 0 < a * d % (p * (d - n)) <;> by_cases ht : 0 < nU a p n d % l <;> by_cases hm : 1000000000000000 < nM a p l n d
          · exact rneed_111 a p l n d w hn hd h ha hf hq hr ht hm
          · exact rneed_110 a p l n d w hn hd h ha hf hq hr ht (by omega)
          · exact rneed_101 a p l n d w hn hd h ha hf hq hr ht hm
          · exact rneed_100 a p l n d w hn hd h ha hf hq hr ht (by omega)
          · exact rneed_011 a p l n d w hn hd h ha hf hq hr ht hm
          · exact rneed_010 a p l n d w hn hd h ha hf hq hr ht (by omega)
          · exact rneed_001 a p l n d w hn hd h ha hf hq hr ht hm
          · exact rneed_000 a p l n d w hn hd h ha hf hq hr ht (by omega)
        · exact rneed_over a p l n d w hn hd h ha hf (by omega)
  · exact rneed_no a p l n d w hn hd h
end Go.Proofs.Ythgeeobbenjioab
