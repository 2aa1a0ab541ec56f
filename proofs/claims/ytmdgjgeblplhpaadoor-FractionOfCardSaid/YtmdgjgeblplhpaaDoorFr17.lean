/-
  Contract of the reference's divide (long multiplication and division, binary digit by binary digit, with a cap) at this translation. Conditions: the three numbers lie within the bounds stated.
-/
import Derived.Test.YtmdgjgeblplhpaaDoorFr6
import Derived.Lib.RabinKarpLaws
import Derived.Deep.CutBlock
import Derived.Deep.DeepCutAuto
namespace Go.Proofs.YtmdgjgeblplhpaaDoor
open Go.RowKit
set_option linter.unusedVariables false

/-- One step of the long division: q and r are the quotient and the remainder of a * n by den; b is the next binary digit. -/
theorem quo_step {a n den q r b : Int} (hd : 0 < den) (hs : q * den + r = a * n) :
    (2 * q + b * (a / den) + (2 * r + b * (a % den)) / den) * den + (2 * r + b * (a % den)) % den = a * (2 * n + b) := by
  have e1 := Int.mul_ediv_add_emod a den
  have e2 := Int.mul_ediv_add_emod (2 * r + b * (a % den)) den
  have f : (2 * q + b * (a / den) + (2 * r + b * (a % den)) / den) * den = 2 * (q * den) + b * (den * (a / den)) + den * ((2 * r + b * (a % den)) / den) := by
    rw [Int.add_mul, Int.add_mul, Int.mul_assoc, Int.mul_assoc, Int.mul_comm (a / den) den, Int.mul_comm ((2 * r + b * (a % den)) / den) den]
  have g : a * (2 * n + b) = 2 * (a * n) + b * a := by
    rw [Int.mul_add, Int.mul_left_comm, Int.mul_comm a b]
  have h : b * (den * (a / den)) + b * (a % den) = b * a := by rw [← Int.mul_add, e1]
  rw [f, g]; omega
theorem quo_is {P den q r : Int} (hd : 0 < den) (hs : q * den + r = P) (r1 : 0 ≤ r) (r2 : r < den) : q = P / den ∧ r = P % den := by
  have h := (Int.ediv_emod_unique (a := P) (b := den) (r := r) (q := q) hd).2 ⟨by rw [Int.mul_comm den q]; omega, r1, r2⟩
  exact ⟨h.1.symm, h.2.symm⟩
theorem halfQ (num : Int) (j : Nat) : num / 2 ^ (j + 1) = num / 2 ^ j / 2 := by
  have h : (0 : Int) < 2 ^ j := Int.pow_pos (by decide)
  rw [Int.pow_succ, Int.ediv_ediv, if_neg (by omega)]; omega
theorem top50 (num : Int) (h0 : 0 ≤ num) (h1 : num ≤ 1000000000) : num / 2 ^ 50 = 0 := by
  have : (2 : Int) ^ 50 = 1125899906842624 := by decide
  rw [this]; omega
theorem dle (num : Int) (j : Nat) (h0 : 0 ≤ num) : 0 ≤ num / 2 ^ j ∧ num / 2 ^ j ≤ num := by
  have h : (0 : Int) < 2 ^ j := Int.pow_pos (by decide)
  exact ⟨Int.ediv_nonneg h0 (by omega), Int.ediv_le_self _ h0⟩

/-- What divide answers: the quotient, capped, and the remainder. -/
def dvQ (P den : Int) : Int := if P / den ≤ 2000000000000001 then P / den else 2000000000000001
/-- The state of the loop: the quotient so far is x, and the slot holds it, capped. -/
def Capd (q x : Int) : Prop := (q = x ∧ 0 ≤ x ∧ x ≤ 2000000000000001) ∨ (q = 2000000000000001 ∧ 2000000000000001 ≤ x)
theorem cap_step {q x u v : Int} (h : Capd q x) (hu : 0 ≤ u) (hv : 0 ≤ v) : Capd (if 2000000000000001 < 2 * q + u + v then 2000000000000001 else 2 * q + u + v) (2 * x + u + v) := by
  unfold Capd at *; split <;> omega
theorem cap_is {P den q x r : Int} (hd : 0 < den) (hs : x * den + r = P) (r1 : 0 ≤ r) (r2 : r < den) (h : Capd q x) : q = dvQ P den ∧ r = P % den := by
  obtain ⟨h1, h2⟩ := quo_is hd hs r1 r2
  refine ⟨?_, h2⟩
  unfold dvQ; rw [← h1]; unfold Capd at h; split <;> omega

def DvPost (P den : Int) (w : World) (e : Ending) (w' : World) : Prop := e = .returned (.tuple #[.int .u64 (dvQ P den), .int .u64 (P % den)]) ∧ ∃ n, w' = w.drewN n

set_option maxHeartbeats 2000000 in
theorem refdiv_any (a num den : Int) (w : World) (a1 : 0 ≤ a) (a2 : a ≤ 1000000000000000) (n1 : 0 ≤ num) (n2 : num ≤ 1000000000) (d1 : 1 ≤ den) (d2 : den ≤ 1000000000) :
    Calls Tryd.prog 42 #[.int .u64 a, .int .u64 num, .int .u64 den] w (DvPost (a * num) den w) := by
  go_enter Tryd.func42, Tryd.ntmps42
  go_wp2_with fail
  go_loopw [8, 9, 10] (fun s8 s9 s10 wr => ∃ (k : Nat) (q r x : Int), k ≤ 50 ∧ s10 = .int .i64 ((k : Int) - 1) ∧ s8 = .int .u64 q ∧ s9 = .int .u64 r ∧ 0 ≤ q ∧ q ≤ 2000000000000001 ∧ 0 ≤ r ∧ r < den ∧ Hid (Capd q x) ∧ Hid (x * den + r = a * (num / 2 ^ k)) ∧ ∃ n, wr = w.drewN n) (fun _ _ s10 _ => (intOf s10 + 1).toNat)
  case atStart => exact ⟨50, 0, 0, 0, by decide, rfl, rfl, rfl, by decide, by decide, by decide, by omega, hide (by unfold Capd; omega), hide (by rw [top50 num n1 n2]; simp), 0, rfl⟩
  case round =>
    obtain ⟨k, q, r, x, hk, rfl, rfl, rfl, q1, q2, r1, r2, HC, HS, n, rfl⟩ := hrel
    have A1 : 0 ≤ a / den := Int.ediv_nonneg a1 (by omega)
    have A2 : a / den ≤ 1000000000000000 := by have := Int.ediv_le_self den a1; omega
    have B1 : 0 ≤ a % den := Int.emod_nonneg _ (by omega)
    have B2 : a % den < den := Int.emod_lt_of_pos _ (by omega)
    by_cases hk0 : k = 0
    · subst hk0
      go_wp2_with fail
      go_ret2
      have h := cap_is (show 0 < den by omega) HS.out r1 r2 HC.out
      simp only [Int.pow_zero, Int.ediv_one] at h
      unfold DvPost
      rw [← h.1, ← h.2]
      exact ⟨rfl, _, rfl⟩
    · obtain ⟨j, rfl⟩ : ∃ j, k = j + 1 := ⟨k - 1, by omega⟩
      have ej : ((j + 1 : Nat) : Int) - 1 = (j : Int) := by omega
      rw [ej]
      obtain ⟨hd0, hdle⟩ := dle num j n1
      by_cases hb : num / 2 ^ j % 2 = 1
      · skip
        have D1 : 0 ≤ (2 * r + a % den) / den := Int.ediv_nonneg (by omega) (by omega)
        have D2 : (2 * r + a % den) / den ≤ 2 := by
          have : (2 * r + a % den) / den < 3 := Int.ediv_lt_of_lt_mul (by omega) (by omega)
          omega
        have E1 : 0 ≤ (2 * r + a % den) % den := Int.emod_nonneg _ (by omega)
        have E2 : (2 * r + a % den) % den < den := Int.emod_lt_of_pos _ (by omega)
        have hn : num / 2 ^ j = 2 * (num / 2 ^ (j + 1)) + 1 := by rw [halfQ]; omega
        have hst : (2 * x + a / den + (2 * r + a % den) / den) * den + (2 * r + a % den) % den = a * (num / 2 ^ j) := by
          have h := quo_step (b := 1) (show 0 < den by omega) HS.out
          rw [← hn] at h
          simpa using h
        have HST := hide hst
        have hcp := cap_step HC.out (show 0 ≤ a / den by omega) D1
        
        have HCP := hide hcp
        clear ej hn hst hcp
        have dn : ¬ den = 0 := by omega
        by_cases ht : 2000000000000001 < 2 * q + a / den + (2 * r + a % den) / den
        · have HCP := hide (by have := HCP.out; rwa [if_pos ht] at this)
          go_wp2_with fail
          go_quiet (fail)
          go_wp2_with fail
          go_quiet (fail)
          go_wp2_with fail
          go_roundw
          case rel => exact ⟨j, _, _, _, by omega, rfl, rfl, rfl, by omega, by omega, E1, E2, HCP, HST, _, rfl⟩
          case measure => simp [intOf]
        · have HCP := hide (by have := HCP.out; rwa [if_neg ht] at this)
          go_wp2_with fail
          go_quiet (fail)
          go_wp2_with fail
          go_quiet (fail)
          go_wp2_with fail
          go_roundw
          case rel => exact ⟨j, _, _, _, by omega, rfl, rfl, rfl, by omega, by omega, E1, E2, HCP, HST, _, rfl⟩
          case measure => simp [intOf]
      · have hb : num / 2 ^ j % 2 = 0 := by omega
        have D1 : 0 ≤ (2 * r) / den := Int.ediv_nonneg (by omega) (by omega)
        have D2 : (2 * r) / den ≤ 2 := by
          have : (2 * r) / den < 3 := Int.ediv_lt_of_lt_mul (by omega) (by omega)
          omega
        have E1 : 0 ≤ (2 * r) % den := Int.emod_nonneg _ (by omega)
        have E2 : (2 * r) % den < den := Int.emod_lt_of_pos _ (by omega)
        have hn : num / 2 ^ j = 2 * (num / 2 ^ (j + 1)) + 0 := by rw [halfQ]; omega
        have hst : (2 * x + (2 * r) / den) * den + (2 * r) % den = a * (num / 2 ^ j) := by
          have h := quo_step (b := 0) (show 0 < den by omega) HS.out
          rw [← hn] at h
          simpa using h
        have HST := hide hst
        have hcp := cap_step HC.out (show 0 ≤ 0 by omega) D1
        rw [Int.add_zero, Int.add_zero] at hcp
        have HCP := hide hcp
        clear ej hn hst hcp
        have dn : ¬ den = 0 := by omega
        by_cases ht : 2000000000000001 < 2 * q + (2 * r) / den
        · have HCP := hide (by have := HCP.out; rwa [if_pos ht] at this)
          go_wp2_with fail
          skip
          skip
          go_quiet (fail)
          go_wp2_with fail
          go_roundw
          case rel => exact ⟨j, _, _, _, by omega, rfl, rfl, rfl, by omega, by omega, E1, E2, HCP, HST, _, rfl⟩
          case measure => simp [intOf]
        · have HCP := hide (by have := HCP.out; rwa [if_neg ht] at this)
          go_wp2_with fail
          skip
          skip
          go_quiet (fail)
          go_wp2_with fail
          go_roundw
          case rel => exact ⟨j, _, _, _, by omega, rfl, rfl, rfl, by omega, by omega, E1, E2, HCP, HST, _, rfl⟩
          case measure => simp [intOf]
end Go.Proofs.YtmdgjgeblplhpaaDoor
