/-
  Plain facts on the checks of a trade; the contracts of both MulDiv at products of amounts that are rounded down.
-/
import Derived.Test.YtipgpmjhoaenlaaDoorP4
import Derived.Test.YtipgpmjhoaenlaaDoorRefMd
import Derived.Test.YtipgpmjhoaenlaaDoorDiv
namespace Go.Proofs.YtipgpmjhoaenlaaDoor
open Go.RowKit
set_option linter.unusedVariables false
set_option linter.unusedSimpArgs false

/-- What a valid trade's numbers keep. -/
structure Good (t : Tr) : Prop where
  k : t.k = 1 ∨ t.k = 2
  q1 : 1 ≤ t.q
  q2 : t.q ≤ 1000000000000000
  m0 : 0 ≤ t.m
  m2 : t.m ≤ 1000000000000000
  m1 : t.k = 1 → 1 ≤ t.m
  mz : t.k = 2 → t.m = 0
  la : t.pa = true → 1 ≤ t.ml ∧ t.ml ≤ t.q
  lz : t.pa = false → t.ml = 0
  sd : 0 ≤ t.td ∧ t.td ≤ t.sd ∧ t.sd ≤ 73048
  p : 0 ≤ t.p ∧ t.p ≤ 2
theorem tE_zero {t : Tr} (h : tE t = 0) : (t.k = 1 ∨ t.k = 2) ∧ okI 1 t.d = true ∧ okI 1 t.r = true ∧ (t.d.toList == t.r.toList) = false ∧ okI 0 t.a = true ∧ nE t = 0 ∧ okI 2 t.r0 = true ∧ okI 2 t.r1 = true := by
  unfold tE tEb at h
  split at h
  · cases h
  · split at h
    · cases h
    · split at h
      · cases h
      · split at h
        · cases h
        · split at h
          · rename_i h1; exact absurd h h1
          · split at h
            · cases h
            · rename_i a b c d e f
              simp only [not_or, Bool.not_eq_false, Bool.not_eq_true] at b c d f
              exact ⟨by omega, b.1, b.2, c, d, by omega, f.1, f.2⟩
theorem good_of {t : Tr} (h : tE t = 0) : Good t := by
  obtain ⟨hk, _, _, _, _, hn, _, _⟩ := tE_zero h
  unfold nE at hn
  split at hn
  · cases hn
  · split at hn
    · cases hn
    · split at hn
      · cases hn
      · split at hn
        · cases hn
        · split at hn
          · cases hn
          · rename_i a b c d e
            refine ⟨hk, by omega, by omega, by omega, by omega, by omega, by omega, fun h => ?_, fun h => ?_, by omega, by omega⟩
            · rw [h] at e; simp at e; omega
            · rw [h] at e; simp at e; omega
/-- The cash of a part. -/
def csh (t : Tr) (n : Int) : Int := t.m * n / t.q
theorem md_floor {m n q : Int} (m0 : 0 ≤ m) (m2 : m ≤ 1000000000000000) (n0 : 0 ≤ n) (nq : n ≤ q) (q1 : 1 ≤ q) (q2 : q ≤ 1000000000000000) :
    mdE m n q 0 = 0 ∧ mdV m n q 0 = m * n / q ∧ 0 ≤ m * n / q ∧ m * n / q ≤ m := by
  have hp : 0 ≤ m * n := Int.mul_nonneg m0 n0
  have hle : m * n / q ≤ m := by
    have h1 : m * n ≤ m * q := Int.mul_le_mul_of_nonneg_left nq m0
    have h2 : m * n / q ≤ m * q / q := Int.ediv_le_ediv (by omega) h1
    rwa [Int.mul_ediv_cancel _ (by omega)] at h2
  have h0 : 0 ≤ m * n / q := Int.ediv_nonneg hp (by omega)
  have hq : mdQ m n q 0 = m * n / q := by
    unfold mdQ absP
    have e1 : (m.natAbs : Int) = m := by omega
    have e2 : (n.natAbs : Int) = n := by omega
    have e3 : negB m n = false := by unfold negB; rw [decide_eq_false (by omega), decide_eq_false (by omega)]; rfl
    rw [e1, e2, e3]
    simp [rnd, upB]
  have hok : okArgs m n q := ⟨⟨by omega, by omega⟩, ⟨by omega, by omega⟩, by omega, by omega⟩
  have hA : okA (mdQ m n q 0) := by rw [hq]; exact ⟨by omega, by omega⟩
  have hE := mdE_ok m n q 0 (by decide) (by decide) hok hA
  exact ⟨hE, by rw [mdV_ok _ _ _ _ hE, hq], h0, hle⟩
theorem divfor (x num den : Int) (h : den < 18446744073709551616) : DivFor x num den := fun hl => by
  have p : 0 ≤ absP x num := by unfold absP; exact Int.mul_nonneg (Int.natCast_nonneg _) (Int.natCast_nonneg _)
  exact div_any _ _ _ (Int.ediv_nonneg p (by decide)) hl h (Int.emod_nonneg _ (by decide)) (Int.emod_lt_of_pos _ (by decide))
theorem md_any (x num den mode : Int) (w : World) (h : den ≤ 9223372036854775807) :
    Calls Tryd.prog 20 #[.int .i64 x, .int .i64 num, .int .i64 den, .int .i64 mode] w fun e w' => e = .returned (.tuple #[.int .i64 (mdV x num den mode), .int .i64 (mdE x num den mode)]) ∧ Below w.heap.size w w' :=
  muldiv_any x num den mode w (divfor x num den (by omega))
theorem rmd_any (x num den mode : Int) (w : World) :
    Calls Tryd.prog 26 #[.int .i64 x, .int .i64 num, .int .i64 den, .int .i64 mode] w fun e w' => e = .returned (.tuple #[.int .i64 (mdV x num den mode), .int .i64 (mdE x num den mode)]) ∧ Below w.heap.size w w' :=
  (refmd_any x num den mode w).mono fun e w' ⟨he, n, hw⟩ => ⟨he, by subst hw; exact below_drewN (Below.refl _ _) n⟩
/-- What Cash answers. -/
def cE (t : Tr) (n : Int) : Int := if tE t ≠ 0 then tE t else if n < 1 ∨ t.q < n then 2 else 0
def cV (t : Tr) (n : Int) : Int := if tE t ≠ 0 then 0 else if n < 1 ∨ t.q < n then 0 else csh t n
theorem cash_in {t : Tr} {n : Int} (h : tE t = 0) (n1 : 1 ≤ n) (n2 : n ≤ t.q) : mdE t.m n t.q 0 = 0 ∧ mdV t.m n t.q 0 = csh t n ∧ 0 ≤ csh t n ∧ csh t n ≤ t.m :=
  have g := good_of h
  md_floor g.m0 g.m2 (by omega) n2 g.q1 g.q2
/-- What Allowed answers. -/
def alB (t : Tr) : Bool := decide (tE t = 0) && (t.pa && decide (t.ml < t.q))
theorem alB_iff {t : Tr} : alB t = true ↔ tE t = 0 ∧ t.pa = true ∧ t.ml < t.q := by unfold alB; simp
/-- Whether some units are a part. -/
def ptB (t : Tr) (n : Int) : Bool := decide (1 ≤ n) && (decide (n < t.q) && (decide (n % t.ml = 0) && (decide (t.k ≠ 1) || decide (0 < csh t n))))
end Go.Proofs.YtipgpmjhoaenlaaDoor
