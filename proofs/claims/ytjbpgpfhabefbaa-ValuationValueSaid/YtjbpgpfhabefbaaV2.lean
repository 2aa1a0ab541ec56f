/-
  Plain arithmetic, no program: the value of a quantity, and the quantity that is needed. Conditions: as stated.
-/
import Derived.Test.YtjbpgpfhabefbaaFr1
namespace Go.Proofs.Ytjbpgpfhabefbaa
set_option linter.unusedVariables false

/-- Whether the arguments of Value are accepted, and what it answers. -/
def inV (q p n d : Int) : Prop := (0 ≤ q ∧ q ≤ 1000000000000000) ∧ (1 ≤ p ∧ p ≤ 1000000000) ∧ (ckE n d = 0 ∧ 0 ≤ n ∧ n ≤ d)
instance (q p n d : Int) : Decidable (inV q p n d) := by unfold inV; infer_instance
def vQ (q p n d : Int) : Int := q * (p * (d - n)) / d
def vE (q p n d : Int) : Int := if inV q p n d then (if vQ q p n d ≤ 1000000000000000 then 0 else 12) else 2
def vV (q p n d : Int) : Int := if vE q p n d = 0 then vQ q p n d else 0

def inN (a p l n d : Int) : Prop := (0 ≤ a ∧ a ≤ 1000000000000000) ∧ (1 ≤ l ∧ l ≤ 1000000000000000) ∧ (1 ≤ p ∧ p ≤ 1000000000) ∧ (ckE n d = 0 ∧ 0 ≤ n ∧ n ≤ d)
instance (a p l n d : Int) : Decidable (inN a p l n d) := by unfold inN; infer_instance
/-- The least quantity, and the least multiple of the lot. -/
def nU (a p n d : Int) : Int := (a * d + (p * (d - n) - 1)) / (p * (d - n))
def nM (a p l n d : Int) : Int := (nU a p n d + l - 1) / l * l
def nE (a p l n d : Int) : Int := if inN a p l n d then (if a = 0 then 0 else if d = n then 25 else if nM a p l n d ≤ 1000000000000000 then 0 else 12) else 2
def nV (a p l n d : Int) : Int := if nE a p l n d = 0 then (if a = 0 then 0 else nM a p l n d) else 0

theorem up_div {x l : Int} (hl : 0 < l) : (x + l - 1) / l = x / l + (if 0 < x % l then 1 else 0) := by
  have e := Int.mul_ediv_add_emod x l
  have b1 := Int.emod_nonneg x (show l ≠ 0 by omega)
  have b2 := Int.emod_lt_of_pos x hl
  generalize x / l = k at *
  generalize x % l = r at *
  split
  · have : x + l - 1 = l * (k + 1) + (r - 1) := by rw [Int.mul_add]; omega
    rw [this, Int.mul_add_ediv_left _ _ (by omega), Int.ediv_eq_zero_of_lt (by omega) (by omega)] <;> omega
  · have hr : r = 0 := by omega
    have : x + l - 1 = l * k + (l - 1) := by omega
    rw [this, Int.mul_add_ediv_left _ _ (by omega), Int.ediv_eq_zero_of_lt (by omega) (by omega)] <;> omega

theorem up_ge {x l : Int} (hl : 0 < l) : x ≤ (x + l - 1) / l * l ∧ (x + l - 1) / l * l < x + l := by
  have e := Int.mul_ediv_add_emod (x + l - 1) l
  have b1 := Int.emod_nonneg (x + l - 1) (show l ≠ 0 by omega)
  have b2 := Int.emod_lt_of_pos (x + l - 1) hl
  rw [Int.mul_comm] at e
  omega

theorem dv_bd {n d p : Int} (h : ckE n d = 0) (h0 : 0 ≤ n) (h1 : n ≤ d) (p1 : 1 ≤ p) (p2 : p ≤ 1000000000) : 0 ≤ p * (d - n) ∧ p * (d - n) ≤ 1000000000000000000 ∧ (n < d → 1 ≤ p * (d - n)) := by
  obtain ⟨a, b, _, _, _⟩ := ck_ok h
  have m := Nat.mul_le_mul (show p.natAbs ≤ 1000000000 by omega) (show (d - n).natAbs ≤ 1000000000 by omega)
  rw [← Int.natAbs_mul] at m
  have z : 0 ≤ p * (d - n) := Int.mul_nonneg (by omega) (by omega)
  refine ⟨z, by omega, fun h => ?_⟩
  have := Int.mul_pos (show 0 < p by omega) (show 0 < d - n by omega)
  omega
end Go.Proofs.Ytjbpgpfhabefbaa
