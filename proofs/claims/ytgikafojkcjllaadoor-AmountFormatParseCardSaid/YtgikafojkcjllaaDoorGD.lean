/-
  Numerals, plainly: their digits, the value they have, the place of the dot.
-/
import Derived.Test.YtgikafojkcjllaaDoorGC
namespace Go.Proofs.YtgikafojkcjllaaDoor
open Go.RowKit
set_option linter.unusedVariables false
set_option linter.unusedSimpArgs false

def dgU (b : UInt8) : Prop := 48 ≤ b.toNat ∧ b.toNat ≤ 57
theorem dgU_of (n : Nat) (h : n < 10) : dgU (UInt8.ofNat (48 + n)) ∧ (UInt8.ofNat (48 + n)).toNat = 48 + n := by
  have e : (UInt8.ofNat (48 + n)).toNat = 48 + n := by rw [UInt8.toNat_ofNat']; omega
  unfold dgU
  omega
theorem dd_digits : ∀ (n : Nat), ∀ b ∈ Lib.decDigits n, dgU b := by
  intro n
  induction n using Nat.strongRecOn with
  | ind n ih =>
    intro b hb
    by_cases h : n < 10
    · rw [dd_small n h] at hb
      simp only [List.mem_singleton] at hb
      rw [hb]
      exact (dgU_of n h).1
    · rw [dd_big n h] at hb
      rcases List.mem_append.1 hb with hb | hb
      · exact ih (n / 10) (by omega) b hb
      · simp only [List.mem_singleton] at hb
        rw [hb]
        exact (dgU_of (n % 10) (by omega)).1
theorem dd_first : ∀ (n : Nat), 0 < n → ∃ b l, Lib.decDigits n = b :: l ∧ b.toNat ≠ 48 := by
  intro n
  induction n using Nat.strongRecOn with
  | ind n ih =>
    intro hn
    by_cases h : n < 10
    · exact ⟨_, [], dd_small n h, by rw [(dgU_of n h).2]; omega⟩
    · obtain ⟨b, l, e, hb⟩ := ih (n / 10) (by omega) (by omega)
      exact ⟨b, l ++ [UInt8.ofNat (48 + n % 10)], by rw [dd_big n h, e]; rfl, hb⟩
/-- The value of a list of digits. -/
def vL (l : List UInt8) : Int := l.foldl (fun a b => a * 10 + ((b.toNat : Int) - 48)) 0
theorem vL_snoc (l : List UInt8) (b : UInt8) : vL (l ++ [b]) = vL l * 10 + ((b.toNat : Int) - 48) := by
  unfold vL
  rw [List.foldl_append]
  rfl
theorem vL_dd : ∀ (n : Nat), vL (Lib.decDigits n) = n := by
  intro n
  induction n using Nat.strongRecOn with
  | ind n ih =>
    by_cases h : n < 10
    · rw [dd_small n h]
      have := (dgU_of n h).2
      show (0 : Int) * 10 + (((UInt8.ofNat (48 + n)).toNat : Int) - 48) = n
      omega
    · rw [dd_big n h, vL_snoc, ih (n / 10) (by omega), (dgU_of (n % 10) (by omega)).2]
      omega
theorem vl_take (s : ByteArray) : ∀ k, k ≤ s.size → vl s k = vL (s.data.toList.take k) := by
  intro k
  induction k with
  | zero => intro _; simp [vl, vL]
  | succ k ih =>
    intro h
    have hl : s.data.toList.length = s.size := Array.length_toList
    have e : s.data.toList.take (k + 1) = s.data.toList.take k ++ [s.data.toList.getD k 0] := by
      rw [List.take_add_one, List.getD_eq_getElem?_getD, List.getElem?_eq_getElem (by omega)]
      rfl
    rw [e, vL_snoc, ← ih (by omega)]
    rfl
theorem vl_all (s : ByteArray) : vl s s.size = vL s.data.toList := by
  rw [vl_take s s.size (Nat.le_refl _), List.take_of_length_le (by rw [Array.length_toList]; exact Nat.le_refl _)]
theorem vl_up (s : ByteArray) (h : ∀ j, j < s.size → Dg (gb s j)) : ∀ k, k ≤ s.size → 0 ≤ vl s k ∧ ∀ j, j ≤ k → vl s j ≤ vl s k := by
  intro k
  induction k with
  | zero => intro _; exact ⟨Int.le_refl _, fun j hj => by obtain rfl : j = 0 := by omega
                                                          exact Int.le_refl _⟩
  | succ k ih =>
    intro hk
    obtain ⟨i1, i2⟩ := ih (by omega)
    have hd := h k (by omega)
    have e : vl s (k + 1) = vl s k * 10 + (gb s k - 48) := rfl
    unfold Dg at hd
    refine ⟨by omega, fun j hj => ?_⟩
    by_cases hjk : j ≤ k
    · have := i2 j hjk
      omega
    · obtain rfl : j = k + 1 := by omega
      exact Int.le_refl _
theorem gb_mem (s : ByteArray) (h : ∀ b ∈ s.data.toList, dgU b) : ∀ j, j < s.size → Dg (gb s j) := by
  intro j hj
  have hl : s.data.toList.length = s.size := Array.length_toList
  have hm := h (s.data.toList[j]'(by omega)) (List.getElem_mem _)
  unfold gb
  rw [List.getD_eq_getElem?_getD, List.getElem?_eq_getElem (by omega)]
  unfold dgU at hm
  unfold Dg
  simp only [Option.getD_some]
  omega
theorem dot_at (l r : List UInt8) (h : ∀ b ∈ l, dgU b) : Lib.indexByte (l ++ 46 :: r) 46 = (l.length : Int) := by
  induction l with
  | nil => simp [Lib.indexByte]
  | cons b l ih =>
    have hb := h b (List.mem_cons_self ..)
    have i := ih (fun x hx => h x (List.mem_cons_of_mem _ hx))
    have hne : (b == 46) = false := by
      rw [beq_eq_false_iff_ne]
      rintro rfl
      unfold dgU at hb
      exact absurd hb.1 (by decide)
    rw [List.cons_append, Lib.indexByte, i, hne]
    have : ((l.length : Int) == -1) = false := by rw [beq_eq_false_iff_ne]; omega
    rw [this]
    simp
end Go.Proofs.YtgikafojkcjllaaDoor
