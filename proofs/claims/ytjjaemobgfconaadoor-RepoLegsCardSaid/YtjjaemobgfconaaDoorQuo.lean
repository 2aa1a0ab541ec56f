/-
  Contract of the reference's Quo (long multiplication and division, binary digit by binary digit) at this translation. Conditions: the three numbers lie within the bounds of an amount.
-/
import Derived.Test.YtjjaemobgfconaaDoorAm5
import Derived.Lib.RabinKarpLaws
import Derived.Deep.CutBlock
import Derived.Deep.DeepCutAuto
namespace Go.Proofs.YtjjaemobgfconaaDoor
open Go.RowKit
set_option linter.unusedVariables false
set_option linter.unusedSimpArgs false

/-- One step of the long division: q and r are the quotient and the remainder of a * n by den; b is the next binary digit. -/
theorem quo_step {a n den q r b : Int} (hd : 0 < den) (hs : q * den + r = a * n) :
    (2 * q + b * (a / den) + (2 * r + b * (a % den)) / den) * den + (2 * r + b * (a % den)) % den = a * (2 * n + b) := by
  have e1 := Int.mul_ediv_add_emod a den
  have e2 := Int.mul_ediv_add_emod (2 * r + b * (a % den)) den
  have f : (2 * q + b * (a / den) + (2 * r + b * (a % den)) / den) * den = 2 * (q * den) + b * (den * (a / den)) + den * ((2 * r + b * (a % den)) / den) := by
    rw [Int.add_mul, Int.add_mul, Int.mul_assoc, Int.mul_assoc, Int.mul_comm (a / den) den, Int.mul_comm ((2 * r + b * (a % den)) / den) den]
  have g : a * (2 * n + b) = 2 * (a * n) + b * a := by
    rw [Int.mul_add, Int.mul_left_comm, Int.mul_comm a b]
  have h : b * (den * (a / den)) + b * (a % den) = b * a := by rw [← Int.mul_add, e1]
  rw [f, g]; omega

theorem quo_is {P den q r : Int} (hd : 0 < den) (hs : q * den + r = P) (r1 : 0 ≤ r) (r2 : r < den) : q = P / den ∧ r = P % den := by
  have h := (Int.ediv_emod_unique (a := P) (b := den) (r := r) (q := q) hd).2 ⟨by rw [Int.mul_comm den q]; omega, r1, r2⟩
  exact ⟨h.1.symm, h.2.symm⟩

theorem half (num : Int) (j : Nat) : num / 2 ^ (j + 1) = num / 2 ^ j / 2 := by
  have h : (0 : Int) < 2 ^ j := Int.pow_pos (by decide)
  rw [Int.pow_succ, Int.ediv_ediv, if_neg (by omega)]; omega
theorem quo_mono (a n m den : Int) (h : n ≤ m) (ha : 0 ≤ a) (hd : 0 < den) : a * n / den ≤ a * m / den := Int.ediv_le_ediv hd (Int.mul_le_mul_of_nonneg_left h ha)
theorem top61 (num : Int) (h0 : 0 ≤ num) (h1 : num ≤ 1000000000000000) : num / 2 ^ 61 = 0 := by
  have : (2 : Int) ^ 61 = 2305843009213693952 := by decide
  rw [this]; omega
theorem dle (num : Int) (j : Nat) (h0 : 0 ≤ num) : 0 ≤ num / 2 ^ j ∧ num / 2 ^ j ≤ num := by
  have h : (0 : Int) < 2 ^ j := Int.pow_pos (by decide)
  exact ⟨Int.ediv_nonneg h0 (by omega), Int.ediv_le_self _ h0⟩
theorem and_one_i64 (n : Int) (h0 : 0 ≤ n) (h1 : n ≤ 9223372036854775807) : bits .and .i64 n 1 = n % 2 := by
  obtain ⟨k, rfl⟩ := Int.eq_ofNat_of_zero_le h0
  have h := Go.Proofs.and_one k (by omega)
  rw [h]; omega

/-- What Quo answers: the quotient, the remainder, and whether the quotient is at most twice the largest amount. -/
def qB (P den : Int) : Bool := decide (P / den ≤ 2000000000000000)
def qV (P den : Int) : Int := if P / den ≤ 2000000000000000 then P / den else 0
def qR (P den : Int) : Int := if P / den ≤ 2000000000000000 then P % den else 0
def QuoPost (P den : Int) (w : World) (e : Ending) (w' : World) : Prop := e = .returned (.tuple #[.int .i64 (qV P den), .int .i64 (qR P den), .bool (qB P den)]) ∧ ∃ n, w' = w.drewN n
theorem quo_no {P den : Int} {w w' : World} (h : ¬ P / den ≤ 2000000000000000) (hw : ∃ n, w' = w.drewN n) : QuoPost P den w (.returned (.tuple #[.int .i64 0, .int .i64 0, .bool false])) w' := by
  unfold QuoPost qV qR qB
  rw [if_neg h, if_neg h, decide_eq_false h]
  exact ⟨rfl, hw⟩
theorem quo_yes {P den q r : Int} {w w' : World} (hd : 0 < den) (hs : q * den + r = P) (r1 : 0 ≤ r) (r2 : r < den) (hq : q ≤ 2000000000000000) (hw : ∃ n, w' = w.drewN n) : QuoPost P den w (.returned (.tuple #[.int .i64 q, .int .i64 r, .bool true])) w' := by
  obtain ⟨h1, h2⟩ := quo_is hd hs r1 r2
  have h : P / den ≤ 2000000000000000 := by omega
  unfold QuoPost qV qR qB
  rw [if_pos h, if_pos h, decide_eq_true h, ← h1, ← h2]
  exact ⟨rfl, hw⟩

set_option maxHeartbeats 1000000 in
theorem refquo_any (a num den : Int) (w : World) (a1 : 0 ≤ a) (a2 : a ≤ 1000000000000000) (n1 : 0 ≤ num) (n2 : num ≤ 1000000000000000) (d1 : 1 ≤ den) (d2 : den ≤ 1000000000000000) :
    Calls Tryd.prog 42 #[.int .i64 a, .int .i64 num, .int .i64 den] w (QuoPost (a * num) den w) := by
  go_enter Tryd.func42, Tryd.ntmps42
  go_wp2_with fail
  go_loopw [9, 10, 11] (fun s9 s10 s11 wr => ∃ (k : Nat) (q r : Int), k ≤ 61 ∧ s11 = .int .i64 ((k : Int) - 1) ∧ s9 = .int .i64 q ∧ s10 = .int .i64 r ∧ 0 ≤ q ∧ q ≤ 2000000000000000 ∧ 0 ≤ r ∧ r < den ∧ Hid (q * den + r = a * (num / 2 ^ k)) ∧ ∃ n, wr = w.drewN n) (fun _ _ s11 _ => (intOf s11 + 1).toNat)
  case atStart => exact ⟨61, 0, 0, by decide, rfl, rfl, rfl, by decide, by decide, by decide, by omega, hide (by rw [top61 num n1 n2]; simp), 0, rfl⟩
  case round =>
    obtain ⟨k, q, r, hk, rfl, rfl, rfl, q1, q2, r1, r2, HS, n, rfl⟩ := hrel
    have A1 : 0 ≤ a / den := Int.ediv_nonneg a1 (by omega)
    have A2 : a / den ≤ 1000000000000000 := by have := Int.ediv_le_self den a1; omega
    have B1 : 0 ≤ a % den := Int.emod_nonneg _ (by omega)
    have B2 : a % den < den := Int.emod_lt_of_pos _ (by omega)
    by_cases hk0 : k = 0
    · subst hk0
      go_wp2_with fail
      go_ret3
      exact quo_yes (by omega) (by have := HS.out; simpa using this) r1 r2 q2 ⟨_, rfl⟩
    · obtain ⟨j, rfl⟩ : ∃ j, k = j + 1 := ⟨k - 1, by omega⟩
      have ej : ((j + 1 : Nat) : Int) - 1 = (j : Int) := by omega
      rw [ej]
      obtain ⟨hd0, hdle⟩ := dle num j n1
      by_cases hb : num / 2 ^ j % 2 = 1
      · skip
        have hbit : bits .and .i64 (num / 2 ^ j) 1 = 1 := by rw [and_one_i64 _ hd0 (by omega)]; omega
        have D1 : 0 ≤ (2 * r + a % den) / den := Int.ediv_nonneg (by omega) (by omega)
        have D2 : (2 * r + a % den) / den ≤ 2 := by
          have : (2 * r + a % den) / den < 3 := Int.ediv_lt_of_lt_mul (by omega) (by omega)
          omega
        have E1 : 0 ≤ (2 * r + a % den) % den := Int.emod_nonneg _ (by omega)
        have E2 : (2 * r + a % den) % den < den := Int.emod_lt_of_pos _ (by omega)
        have hn : num / 2 ^ j = 2 * (num / 2 ^ (j + 1)) + 1 := by rw [half]; omega
        have hst : (2 * q + a / den + (2 * r + a % den) / den) * den + (2 * r + a % den) % den = a * (num / 2 ^ j) := by
          have h := quo_step (b := 1) (show 0 < den by omega) HS.out
          rw [← hn] at h
          simpa using h
        have HST := hide hst
        clear hb ej hn hst
        by_cases ht : 2000000000000000 < 2 * q + a / den + (2 * r + a % den) / den
        · have hf : ¬ a * num / den ≤ 2000000000000000 := by
            have h1 := (quo_is (show 0 < den by omega) HST.out E1 E2).1
            have h2 := quo_mono a (num / 2 ^ j) num den hdle a1 (by omega)
            omega
          have HF := hide hf
          clear hf
          go_wp2_with fail
          go_quiet (fail)
          go_wp2_with fail
          go_quiet (fail)
          go_wp2_with fail
          go_ret3
          exact quo_no (by have := HF.out; omega) ⟨_, rfl⟩
        · go_wp2_with fail
          go_quiet (fail)
          go_wp2_with fail
          go_quiet (fail)
          go_wp2_with fail
          go_roundw
          case rel => exact ⟨j, _, _, by omega, rfl, rfl, rfl, by omega, by omega, E1, E2, HST, _, rfl⟩
          case measure => simp [intOf]
      · skip
        have hbit : bits .and .i64 (num / 2 ^ j) 1 = 0 := by rw [and_one_i64 _ hd0 (by omega)]; omega
        have D1 : 0 ≤ (2 * r) / den := Int.ediv_nonneg (by omega) (by omega)
        have D2 : (2 * r) / den ≤ 2 := by
          have : (2 * r) / den < 3 := Int.ediv_lt_of_lt_mul (by omega) (by omega)
          omega
        have E1 : 0 ≤ (2 * r) % den := Int.emod_nonneg _ (by omega)
        have E2 : (2 * r) % den < den := Int.emod_lt_of_pos _ (by omega)
        have hn : num / 2 ^ j = 2 * (num / 2 ^ (j + 1)) + 0 := by rw [half]; omega
        have hst : (2 * q + (2 * r) / den) * den + (2 * r) % den = a * (num / 2 ^ j) := by
          have h := quo_step (b := 0) (show 0 < den by omega) HS.out
          rw [← hn] at h
          simpa using h
        have HST := hide hst
        clear hb ej hn hst
        by_cases ht : 2000000000000000 < 2 * q + (2 * r) / den
        · have hf : ¬ a * num / den ≤ 2000000000000000 := by
            have h1 := (quo_is (show 0 < den by omega) HST.out E1 E2).1
            have h2 := quo_mono a (num / 2 ^ j) num den hdle a1 (by omega)
            omega
          have HF := hide hf
          clear hf
          go_wp2_with fail
          go_quiet (fail)
          go_wp2_with fail
          skip
          skip
          go_ret3
          exact quo_no (by have := HF.out; omega) ⟨_, rfl⟩
        · go_wp2_with fail
          go_quiet (fail)
          go_wp2_with fail
          skip
          skip
          go_roundw
          case rel => exact ⟨j, _, _, by omega, rfl, rfl, rfl, by omega, by omega, E1, E2, HST, _, rfl⟩
          case measure => simp [intOf]
end Go.Proofs.YtjjaemobgfconaaDoor
