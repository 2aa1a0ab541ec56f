/-
  Terms, days, interest: plain.
-/
import Derived.Test.YtjjaemobgfconaaDoorE1
import Derived.WalkKit
import Derived.Deep.QuietTactic
import Derived.BigQuiet
import Derived.Laws.EntriesVeiled
import Derived.Lib.MinMax
import Derived.Deep.Light
namespace Go.Proofs.YtjjaemobgfconaaDoor
open Go.RowKit
set_option linter.unusedVariables false
set_option linter.unusedSimpArgs false
set_option linter.unnecessarySimpa false

/-- What the checks of terms and days answer. -/
def tmE (t : Ag) : Int := if t.q < 1 ∨ 1000000000000000 < t.q ∨ t.c < 1 ∨ 1000000000000000 < t.c then 2 else if ckE t.n t.d ≠ 0 ∨ t.n < 0 ∨ t.d < t.n then 2 else 0
def daE (t : Ag) : Int := if dyB t.op = false ∨ dyB t.cl = false then 28 else if t.cl - t.op < 1 ∨ 400 < t.cl - t.op then 28 else 0
/-- The terms and the days are right. -/
structure Fit (t : Ag) : Prop where
  c1 : 1 ≤ t.c
  c2 : t.c ≤ 1000000000000000
  n1 : 0 ≤ t.n
  n2 : t.n ≤ t.d
  d1 : 1 ≤ t.d
  d2 : t.d ≤ 1000000000
/-- The interest of k days. -/
def iQ (t : Ag) (k : Int) : Int := t.c * (t.n * k) / (t.d * 360)
def iR (t : Ag) (k : Int) : Int := t.c * (t.n * k) % (t.d * 360)
def iU (t : Ag) (k : Int) : Int := if t.d * 360 < 2 * iR t k ∨ (2 * iR t k = t.d * 360 ∧ iQ t k % 2 = 1) then 1 else 0
def iV (t : Ag) (k : Int) : Int := iQ t k + iU t k
theorem Fit.prod {t : Ag} (h : Fit t) {k : Int} (k1 : 0 ≤ k) (k2 : k ≤ 400) : 0 ≤ t.n * k ∧ t.n * k ≤ 400000000000 ∧ t.n * k ≤ t.d * 400 := by
  obtain ⟨_, _, n1, n2, d1, d2⟩ := h
  refine ⟨Int.mul_nonneg n1 k1, ?_, ?_⟩
  · have h1 : t.n * k ≤ t.n * 400 := Int.mul_le_mul_of_nonneg_left k2 n1
    omega
  · have h1 : t.n * k ≤ t.n * 400 := Int.mul_le_mul_of_nonneg_left k2 n1
    omega
theorem Fit.bds {t : Ag} (h : Fit t) {k : Int} (k1 : 0 ≤ k) (k2 : k ≤ 400) : 0 ≤ iQ t k ∧ iQ t k ≤ 1200000000000000 ∧ 0 ≤ iR t k ∧ iR t k < t.d * 360 ∧ 0 ≤ t.c * (t.n * k) := by
  obtain ⟨p1, p2, p3⟩ := h.prod k1 k2
  obtain ⟨c1, c2, n1, n2, d1, d2⟩ := h
  have hD : 0 < t.d * 360 := by omega
  have h0 : 0 ≤ t.c * (t.n * k) := Int.mul_nonneg (by omega) p1
  have h3 : t.c * (t.n * k) ≤ 1000000000000000 * (t.d * 400) := by
    have a1 : t.c * (t.n * k) ≤ t.c * (t.d * 400) := Int.mul_le_mul_of_nonneg_left p3 (by omega)
    have a2 : t.c * (t.d * 400) ≤ 1000000000000000 * (t.d * 400) := Int.mul_le_mul_of_nonneg_right c2 (by omega)
    omega
  refine ⟨Int.ediv_nonneg h0 (by omega), ?_, Int.emod_nonneg _ (by omega), Int.emod_lt_of_pos _ hD, h0⟩
  unfold iQ
  have : t.c * (t.n * k) / (t.d * 360) < 1200000000000001 := Int.ediv_lt_of_lt_mul hD (by omega)
  omega

end Go.Proofs.YtjjaemobgfconaaDoor
