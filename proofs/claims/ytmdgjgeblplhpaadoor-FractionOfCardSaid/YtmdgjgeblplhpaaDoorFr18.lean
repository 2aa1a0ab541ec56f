/-
  Plain arithmetic, no program: what Of answers, by magnitude and sign. Conditions: as stated.
-/
import Derived.Test.YtmdgjgeblplhpaaDoorFr17
import Derived.Test.YtmdgjgeblplhpaaDoorFr11
namespace Go.Proofs.YtmdgjgeblplhpaaDoor
set_option linter.unusedVariables false
set_option linter.unusedSimpArgs false

/-- Whether the magnitude is rounded up. -/
def rupB (ng : Bool) (q r d m : Int) : Bool := if m = 0 then ng && decide (0 < r) else if m = 1 then !ng && decide (0 < r) else if m = 2 then (decide (d < 2 * r) || (decide (2 * r = d) && decide (q % 2 = 1))) else false
def magP (x n : Int) : Int := (x.natAbs : Int) * (n.natAbs : Int)
def sgv (ng : Bool) (a : Int) : Int := if ng then -a else a

theorem mag_prod (x n : Int) : x * n = sgv (ngB x n) (magP x n) := by
  unfold sgv magP ngB
  by_cases hx : x < 0
  · by_cases hn : n < 0
    · have e1 : (x.natAbs : Int) = -x := by omega
      have e2 : (n.natAbs : Int) = -n := by omega
      simp [hx, hn, e1, e2, Int.neg_mul, Int.mul_neg]
    · have e1 : (x.natAbs : Int) = -x := by omega
      have e2 : (n.natAbs : Int) = n := by omega
      simp [hx, hn, e1, e2, Int.neg_mul, Int.mul_neg]
  · by_cases hn : n < 0
    · have e1 : (x.natAbs : Int) = x := by omega
      have e2 : (n.natAbs : Int) = -n := by omega
      simp [hx, hn, e1, e2, Int.neg_mul, Int.mul_neg]
    · have e1 : (x.natAbs : Int) = x := by omega
      have e2 : (n.natAbs : Int) = n := by omega
      simp [hx, hn, e1, e2, Int.neg_mul, Int.mul_neg]
theorem magP_nonneg (x n : Int) : 0 ≤ magP x n := Int.mul_nonneg (by omega) (by omega)

theorem mag_qr (n d x : Int) (hd : 0 < d) : qT n d x = sgv (ngB x n) (magP x n / d) ∧ rT n d x = sgv (ngB x n) (magP x n % d) := by
  unfold qT rT
  rw [mag_prod]
  have h0 := magP_nonneg x n
  generalize magP x n = P at *
  have e1 := Int.tdiv_eq_ediv_of_nonneg (b := d) h0
  have e2 := Int.tmod_eq_emod_of_nonneg (b := d) h0
  cases ngB x n
  · exact ⟨e1, e2⟩
  · simp only [sgv, if_true]
    rw [Int.neg_tdiv, Int.neg_tmod, e1, e2]
    exact ⟨rfl, rfl⟩

theorem up_st {ng : Bool} {q r d m : Int} (hd : 0 < d) (r0 : 0 ≤ r) (r1 : r < d) (m1 : 0 ≤ m) (m2 : m ≤ 3) :
    stV (sgv ng q) (sgv ng r) d m = sgv ng (if rupB ng q r d m then 1 else 0) := by
  have tq : ∀ a : Int, (a.tmod 2 = 0) = (a % 2 = 0) := fun a => propext (tm2 a)
  have hm : m = 0 ∨ m = 1 ∨ m = 2 ∨ m = 3 := by omega
  have rr : r = 0 ∨ 0 < r := by omega
  rcases hm with rfl | rfl | rfl | rfl
  · cases ng <;> rcases rr with rfl | rr <;> simp [stV, rupB, sgv] <;> omega
  · cases ng <;> rcases rr with rfl | rr <;> simp [stV, rupB, sgv] <;> omega
  · unfold stV rupB dirV
    simp only [tq, show ¬ (2 : Int) = 0 by decide, show ¬ (2 : Int) = 1 by decide, if_false, if_true]
    rcases rr with rfl | rr
    · have : ¬ d < 0 := by omega
      have : ¬ (0 : Int) = d := by omega
      cases ng <;> simp [sgv, *]
    · cases ng
      · simp only [sgv, Bool.false_eq_true, if_false]
        rw [if_neg (show ¬ r < 0 by omega), if_pos rr]
        by_cases h1 : d < 2 * r
        · simp [h1, rr]
        · by_cases h2 : 2 * r = d
          · by_cases h3 : q % 2 = 1
            · have : ¬ q % 2 = 0 := by omega
              simp [h1, h2, h3, rr]
            · have : q % 2 = 0 := by omega
              simp [h1, h2, this]
          · simp [h1, h2]
      · simp only [sgv, if_true]
        rw [if_pos (show -r < 0 by omega)]
        by_cases h1 : d < 2 * r
        · have : d < 2 * -r * -1 := by omega
          rw [if_pos this]
          simp [h1]
        · have h1' : ¬ d < 2 * -r * -1 := by omega
          by_cases h2 : 2 * r = d
          · have h2' : 2 * -r * -1 = d := by omega
            by_cases h3 : q % 2 = 1
            · have : ¬ -q % 2 = 0 := by omega
              rw [if_neg h1', if_pos h2', if_neg this]
              simp [h2, h3]
            · have h4 : -q % 2 = 0 := by omega
              have : q % 2 = 0 := by omega
              rw [if_neg h1', if_pos h2', if_pos h4]
              simp [h1, h2, this]
          · have h2' : ¬ 2 * -r * -1 = d := by omega
            rw [if_neg h1', if_neg h2']
            simp [h1, h2]
  · simp [stV, rupB, sgv]

/-- What the walk of the reference's Of needs. -/
structure Mag (n d x m : Int) (q r u : Int) : Prop where
  big : 1000000000000000 < q + u → ofE n d x m = 12
  ok : q + u ≤ 1000000000000000 → ofE n d x m = 0 ∧ ofV n d x m = sgv (ngB x n) (q + u) ∧ ofN n d x m = nwN (sgv (ngB x n) (r - u * d)) d ∧ ofD n d x m = nwD (sgv (ngB x n) (r - u * d)) d
  q0 : 0 ≤ q
  q1 : q ≤ 2000000000000001
  r0 : 0 ≤ r
  r1 : r < d
theorem mag_of {n d x m : Int} (h : ckE n d = 0) (m1 : 0 ≤ m) (m2 : m ≤ 3) (hx : amA x = true) :
    Mag n d x m (dvQ (magP x n) d) (magP x n % d) (if rupB (ngB x n) (dvQ (magP x n) d) (magP x n % d) d m then 1 else 0) := by
  obtain ⟨d0, d1, _, _, _⟩ := ck_ok h
  have hd : 0 < d := by omega
  obtain ⟨e1, e2⟩ := mag_qr n d x hd
  have P0 := magP_nonneg x n
  have r0 := Int.emod_nonneg (magP x n) (show d ≠ 0 by omega)
  have r1 := Int.emod_lt_of_pos (magP x n) hd
  have q0 : 0 ≤ magP x n / d := Int.ediv_nonneg P0 (by omega)
  have hE : ofE n d x m = if amA (qT n d x + ofS n d x m) then 0 else 12 := by
    unfold ofE; rw [if_pos h, if_neg (by omega), if_pos hx]
  have hS : ofS n d x m = sgv (ngB x n) (if rupB (ngB x n) (magP x n / d) (magP x n % d) d m then 1 else 0) := by
    unfold ofS; rw [e1, e2]; exact up_st hd r0 r1 m1 m2
  have hdv : dvQ (magP x n) d = if magP x n / d ≤ 2000000000000001 then magP x n / d else 2000000000000001 := rfl
  have hN : ofE n d x m = 0 → ofN n d x m = nwN (rT n d x - ofS n d x m * d) d := fun g => by unfold ofN; rw [if_pos g]
  have hD : ofE n d x m = 0 → ofD n d x m = nwD (rT n d x - ofS n d x m * d) d := fun g => by unfold ofD; rw [if_pos g]
  have hV : ofE n d x m = 0 → ofV n d x m = qT n d x + ofS n d x m := fun g => by unfold ofV; rw [if_pos g]
  rw [e2, hS] at hN hD
  rw [e1, hS] at hV hE
  generalize magP x n / d = q at *
  generalize magP x n % d = r at *
  generalize dvQ (magP x n) d = Q at *
  generalize hng : ngB x n = ng at *
  clear e1 e2 hS P0 h hx
  have aI : ∀ y : Int, amA y = true ↔ -1000000000000000 ≤ y ∧ y ≤ 1000000000000000 := fun y => amA_iff
  by_cases hq : q ≤ 2000000000000001
  · rw [if_pos hq] at hdv
    subst hdv
    generalize rupB ng Q r d m = U at *
    obtain ⟨u, hu⟩ : ∃ u : Int, u = if U = true then 1 else 0 := ⟨_, rfl⟩
    rw [← hu] at hE hN hD hV ⊢
    have ub : 0 ≤ u ∧ u ≤ 1 := by rw [hu]; split <;> omega
    have av : amA (sgv ng Q + sgv ng u) = decide (Q + u ≤ 1000000000000000) := by
      rw [Bool.eq_iff_iff, aI, decide_eq_true_iff]
      cases ng <;> simp only [sgv, if_true, Bool.false_eq_true, if_false] <;> omega
    rw [av] at hE
    have es : sgv ng Q + sgv ng u = sgv ng (Q + u) := by
      cases ng <;> simp only [sgv, if_true, Bool.false_eq_true, if_false] <;> omega
    have er : sgv ng r - sgv ng u * d = sgv ng (r - u * d) := by
      cases ng <;> simp only [sgv, if_true, Bool.false_eq_true, if_false]
      rw [Int.neg_mul]; omega
    rw [es] at hV
    rw [er] at hN hD
    refine ⟨fun g => ?_, fun g => ?_, q0, hq, r0, r1⟩
    · rw [hE, decide_eq_false (by omega)]; rfl
    · have e0 : ofE n d x m = 0 := by rw [hE, decide_eq_true g]; rfl
      exact ⟨e0, by rw [hng]; exact hV e0, by rw [hng]; exact hN e0, by rw [hng]; exact hD e0⟩
  · rw [if_neg hq] at hdv
    have av : amA (sgv ng q + sgv ng (if rupB ng q r d m = true then 1 else 0)) = false := by
      rw [Bool.eq_false_iff]
      intro g
      have := (aI _).1 g
      revert this
      cases ng <;> simp only [sgv, if_true, Bool.false_eq_true, if_false] <;> split <;> omega
    rw [av] at hE
    refine ⟨fun g => by rw [hE]; rfl, fun g => ?_, by omega, by omega, r0, r1⟩
    exfalso
    revert g
    split <;> omega
end Go.Proofs.YtmdgjgeblplhpaaDoor
