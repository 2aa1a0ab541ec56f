/-
  Identifiers: what replacing a byte does to the check digits. No program in this text.
-/
import Derived.Test.YtjjaemobgfconaaDoorId1
namespace Go.Proofs.YtjjaemobgfconaaDoor
open Go.RowKit
set_option linter.unusedVariables false

theorem luA_pre (p : List Int) (b : Bool) : ∃ (t : Int) (b' : Bool), ∀ x, (luA x).2 = b → luA (p ++ x) = ((luA x).1 + t, b') := by
  induction p with
  | nil => exact ⟨0, b, fun x hx => by rw [← hx]; simp⟩
  | cons c p ih =>
    obtain ⟨t, b', h⟩ := ih
    by_cases hv : 10 ≤ val c
    · refine ⟨t + dsum b' (val c % 10) + dsum (!b') (val c / 10), b', fun x hx => ?_⟩
      simp only [List.cons_append, luA]
      rw [if_pos hv, h x hx]
      simp only [lst, Bool.not_not]
      rw [Int.add_assoc, Int.add_assoc, Int.add_assoc]
    · refine ⟨t + dsum b' (val c % 10), !b', fun x hx => ?_⟩
      simp only [List.cons_append, luA]
      rw [if_neg hv, h x hx]
      simp only [lst]
      rw [Int.add_assoc]
theorem luA_digit {c : Int} (h1 : 48 ≤ c) (h2 : c ≤ 57) (r : List Int) : luA (c :: r) = ((luA r).1 + dsum (luA r).2 (c - 48), !(luA r).2) := by
  have v : val c = c - 48 := if_pos h2
  simp only [luA]
  rw [v, if_neg (by omega), show (c - 48) % 10 = c - 48 by omega]
  rfl
theorem dsum_inj {b : Bool} {d d' : Int} (h0 : 0 ≤ d) (h1 : d ≤ 9) (h0' : 0 ≤ d') (h1' : d' ≤ 9) (h : dsum b d = dsum b d') : d = d' := by
  unfold dsum at h
  split at h <;> omega
/-- Another digit in the body: another check digit. -/
theorem luhn_sub (p r : List Int) {c c' : Int} (h1 : 48 ≤ c) (h2 : c ≤ 57) (h1' : 48 ≤ c') (h2' : c' ≤ 57) (h : luhn (p ++ c :: r) = luhn (p ++ c' :: r)) : c = c' := by
  obtain ⟨t, b', hp⟩ := luA_pre p (!(luA r).2)
  have e1 := hp (c :: r) (by rw [luA_digit h1 h2])
  have e2 := hp (c' :: r) (by rw [luA_digit h1' h2'])
  unfold luhn at h
  rw [e1, e2, luA_digit h1 h2, luA_digit h1' h2'] at h
  simp only at h
  have q1 := dsum_bd (b := (luA r).2) (d := c - 48) (by omega) (by omega)
  have q2 := dsum_bd (b := (luA r).2) (d := c' - 48) (by omega) (by omega)
  have := dsum_inj (b := (luA r).2) (d := c - 48) (d' := c' - 48) (by omega) (by omega) (by omega) (by omega) (by
    generalize dsum (luA r).2 (c - 48) = A at *
    generalize dsum (luA r).2 (c' - 48) = B at *
    omega)
  omega

/-- With its check digits an LEI leaves 1. -/
theorem lei_one {l : List Int} : moA 0 (l ++ [48 + cd l / 10, 48 + cd l % 10]) = 1 := by
  have b := cd_bd l
  rw [moA_append]
  unfold cd at *
  have q := moA_bd (show (0 : Int) ≤ 0 by omega) (by omega) l
  generalize moA 0 l = x at *
  show mas (mas x _) _ = 1
  unfold mas val
  rw [if_pos (show 48 + (98 - x * 100 % 97) / 10 ≤ 57 by omega), if_pos (show 48 + (98 - x * 100 % 97) % 10 ≤ 57 by omega), if_neg (by omega), if_neg (by omega)]
  omega
/-- The same class. -/
def sameC (c c' : Int) : Prop := ((48 ≤ c ∧ c ≤ 57) ∧ (48 ≤ c' ∧ c' ≤ 57)) ∨ ((65 ≤ c ∧ c ≤ 90) ∧ (65 ≤ c' ∧ c' ≤ 90))
theorem mas_sub {q c c' : Int} (hq : 0 ≤ q) (hq2 : q ≤ 96) (hs : sameC c c') (h : mas q c = mas q c') : c = c' := by
  unfold mas val at h
  unfold sameC at hs
  rcases hs with ⟨a, b⟩ | ⟨a, b⟩
  · rw [if_pos (show c ≤ 57 by omega), if_pos (show c' ≤ 57 by omega), if_neg (by omega), if_neg (by omega)] at h
    omega
  · rw [if_neg (show ¬ c ≤ 57 by omega), if_neg (show ¬ c' ≤ 57 by omega), if_pos (by omega), if_pos (by omega)] at h
    omega
theorem lei_sub (p r : List Int) {c c' : Int} (hs : sameC c c') (h : moA 0 (p ++ c :: r) = moA 0 (p ++ c' :: r)) : c = c' := by
  rw [moA_append, moA_append] at h
  have q := moA_bd (show (0 : Int) ≤ 0 by omega) (by omega) p
  generalize moA 0 p = x at *
  exact mas_sub q.1 q.2 hs (moA_inj r (mas_bd _ _).1 (mas_bd _ _).1 (mas_bd _ _).2 (mas_bd _ _).2 h)
theorem lei_swap (p r : List Int) {a b : Int} (a1 : 48 ≤ a) (a2 : a ≤ 57) (b1 : 48 ≤ b) (b2 : b ≤ 57) (h : moA 0 (p ++ a :: b :: r) = moA 0 (p ++ b :: a :: r)) : a = b := by
  rw [moA_append, moA_append] at h
  have q := moA_bd (show (0 : Int) ≤ 0 by omega) (by omega) p
  generalize moA 0 p = x at *
  have := moA_inj (r := mas (mas x a) b) (r' := mas (mas x b) a) r (mas_bd _ _).1 (mas_bd _ _).1 (mas_bd _ _).2 (mas_bd _ _).2 h
  unfold mas val at this
  rw [if_pos (show a ≤ 57 by omega), if_pos (show b ≤ 57 by omega), if_neg (show ¬ 10 ≤ a - 48 by omega), if_neg (show ¬ 10 ≤ b - 48 by omega)] at this
  simp only [show ¬ 10 ≤ b - 48 by omega, show ¬ 10 ≤ a - 48 by omega, if_false] at this
  omega
end Go.Proofs.YtjjaemobgfconaaDoor
