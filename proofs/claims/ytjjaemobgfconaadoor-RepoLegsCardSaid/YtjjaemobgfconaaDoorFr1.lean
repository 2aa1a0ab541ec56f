/-
  Plain arithmetic, no program: lowest terms, the laws of fractions, rounding of a fraction of an amount. Conditions: as stated.
-/
namespace Go.Proofs.YtjjaemobgfconaaDoor
set_option linter.unusedSimpArgs false

/-- The parts of a number of two integers in lowest terms. -/
def gA (n d : Int) : Nat := Nat.gcd n.natAbs d.natAbs
def pN (n d : Int) : Nat := n.natAbs / gA n d
def pD (n d : Int) : Nat := d.natAbs / gA n d
def ovB (n d : Int) : Bool := decide (1000000000 < pN n d) || decide (1000000000 < pD n d)
def ngB (n d : Int) : Bool := decide (n < 0) != decide (d < 0)
def nwE (n d : Int) : Int := if d = 0 then 2 else if ovB n d then 12 else 0
def nwN (n d : Int) : Int := if d = 0 then 0 else if ovB n d then 0 else if ngB n d then -(pN n d : Int) else (pN n d : Int)
def nwD (n d : Int) : Int := if d = 0 then 0 else if ovB n d then 0 else (pD n d : Int)
def rgB (n d : Int) : Bool := decide (d < 1) || decide (1000000000 < d) || decide (n < -1000000000) || decide (1000000000 < n)
def ckE (n d : Int) : Int := if rgB n d then 2 else if gA n d = 1 then 0 else 3

theorem gA_pos {n d : Int} (h : d ≠ 0) : 0 < gA n d := Nat.gcd_pos_of_pos_right _ (by omega)

theorem pN_eq {n d n' d' : Int} (hd : d ≠ 0) (hd' : d' ≠ 0) (h : n.natAbs * d'.natAbs = n'.natAbs * d.natAbs) : pN n d = pN n' d' := by
  have g1 : n.natAbs * gA n' d' = n'.natAbs * gA n d := by
    unfold gA
    rw [← Nat.gcd_mul_left, ← Nat.gcd_mul_left, h, Nat.mul_comm n.natAbs n'.natAbs]
  unfold pN
  have p1 := gA_pos (n := n) hd
  have p2 := gA_pos (n := n') hd'
  rw [← Nat.mul_div_mul_right n.natAbs (gA n d) p2, g1, Nat.mul_comm (gA n d), Nat.mul_div_mul_right _ _ p1]

theorem pD_eq {n d n' d' : Int} (hd : d ≠ 0) (hd' : d' ≠ 0) (h : n.natAbs * d'.natAbs = n'.natAbs * d.natAbs) : pD n d = pD n' d' := by
  have g1 : d.natAbs * gA n' d' = d'.natAbs * gA n d := by
    unfold gA
    rw [← Nat.gcd_mul_left, ← Nat.gcd_mul_left, Nat.mul_comm d.natAbs n'.natAbs, ← h, Nat.mul_comm d'.natAbs d.natAbs, Nat.mul_comm d'.natAbs n.natAbs]
  unfold pD
  have p1 := gA_pos (n := n) hd
  have p2 := gA_pos (n := n') hd'
  rw [← Nat.mul_div_mul_right d.natAbs (gA n d) p2, g1, Nat.mul_comm (gA n d), Nat.mul_div_mul_right _ _ p1]

theorem abs_mul_eq {n d n' d' : Int} (h : n * d' = n' * d) : n.natAbs * d'.natAbs = n'.natAbs * d.natAbs := by
  rw [← Int.natAbs_mul, ← Int.natAbs_mul, h]

theorem ov_eq {n d n' d' : Int} (hd : d ≠ 0) (hd' : d' ≠ 0) (h : n * d' = n' * d) : ovB n d = ovB n' d' := by
  unfold ovB; rw [pN_eq hd hd' (abs_mul_eq h), pD_eq hd hd' (abs_mul_eq h)]

theorem ng_eq {n d n' d' : Int} (hn : n ≠ 0) (hd : d ≠ 0) (hd' : d' ≠ 0) (h : n * d' = n' * d) : ngB n d = ngB n' d' := by
  have hs : n.sign * d'.sign = n'.sign * d.sign := by rw [← Int.sign_mul, ← Int.sign_mul, h]
  have hn' : n' ≠ 0 := by
    intro h0; rw [h0, Int.zero_mul] at h
    rcases Int.mul_eq_zero.1 h with h | h <;> omega
  unfold ngB
  rcases Int.lt_or_gt_of_ne hn with a | a <;> rcases Int.lt_or_gt_of_ne hd with b | b <;> rcases Int.lt_or_gt_of_ne hn' with c | c <;> rcases Int.lt_or_gt_of_ne hd' with e | e <;>
    simp only [Int.sign_eq_neg_one_of_neg, Int.sign_eq_one_of_pos, a, b, c, e] at hs <;>
    first
    | (exfalso; revert hs; decide)
    | grind

theorem nw_eq {n d n' d' : Int} (hd : d ≠ 0) (hd' : d' ≠ 0) (h : n * d' = n' * d) : nwE n d = nwE n' d' ∧ nwN n d = nwN n' d' ∧ nwD n d = nwD n' d' := by
  unfold nwE nwN nwD
  rw [ov_eq hd hd' h, pN_eq hd hd' (abs_mul_eq h), pD_eq hd hd' (abs_mul_eq h)]
  simp only [hd, hd', if_false, true_and, and_true]
  by_cases hn : n = 0
  · have hn' : n' = 0 := by
      rw [hn, Int.zero_mul] at h
      rcases Int.mul_eq_zero.1 h.symm with h | h
      · exact h
      · omega
    have hp : pN n' d' = 0 := by unfold pN; rw [hn']; simp
    rw [hp]
    split <;> rename_i q <;> simp
  · rw [ng_eq hn hd hd' h]

theorem gA_dvd (n d : Int) : gA n d * pN n d = n.natAbs ∧ gA n d * pD n d = d.natAbs := by
  unfold pN pD gA
  exact ⟨Nat.mul_div_cancel' (Nat.gcd_dvd_left _ _), Nat.mul_div_cancel' (Nat.gcd_dvd_right _ _)⟩

/-- What New answers without an error has the value of its arguments, a positive denominator, and is in lowest terms and in range. -/
theorem nw_ok {n d : Int} (h : nwE n d = 0) : d ≠ 0 ∧ nwN n d * d = n * nwD n d ∧ ckE (nwN n d) (nwD n d) = 0 ∧ 0 < nwD n d := by
  have hd : d ≠ 0 := by intro hd; simp [nwE, hd] at h
  have ho : ovB n d = false := by
    cases hb : ovB n d
    · rfl
    · simp [nwE, hd, hb] at h
  have hg := gA_pos (n := n) hd
  obtain ⟨e1, e2⟩ := gA_dvd n d
  have hD : nwD n d = pD n d := by simp [nwD, hd, ho]
  have hN : nwN n d = if ngB n d then -(pN n d : Int) else (pN n d : Int) := by simp [nwN, hd, ho]
  have hDp : 0 < pD n d := by
    apply Nat.pos_of_ne_zero; intro h0; rw [h0] at e2; omega
  have e1' : (gA n d : Int) * pN n d = n.natAbs := by exact_mod_cast e1
  have e2' : (gA n d : Int) * pD n d = d.natAbs := by exact_mod_cast e2
  have hb : pN n d ≤ 1000000000 ∧ pD n d ≤ 1000000000 := by
    simp [ovB] at ho; exact ho
  have hc : Nat.gcd (pN n d) (pD n d) = 1 := Nat.coprime_div_gcd_div_gcd hg
  refine ⟨hd, ?_, ?_, by rw [hD]; omega⟩
  · rw [hN, hD]
    have key : (pN n d : Int) * d.natAbs = n.natAbs * pD n d := by rw [← e1', ← e2']; grind
    unfold ngB
    by_cases a : n < 0 <;> by_cases b : d < 0 <;> simp only [a, b, decide_true, decide_false, bne_self_eq_false, Bool.true_bne, Bool.false_bne, Bool.not_false, if_true, if_false, Bool.false_eq_true] <;> grind
  · have h1 : rgB (nwN n d) (nwD n d) = false := by
      rw [hN, hD]; unfold rgB; split <;> simp <;> omega
    have h2 : gA (nwN n d) (nwD n d) = 1 := by
      rw [hN, hD]; unfold gA; split <;> simp [hc]
    simp [ckE, h1, h2]

theorem ck_ok {n d : Int} (h : ckE n d = 0) : 1 ≤ d ∧ d ≤ 1000000000 ∧ -1000000000 ≤ n ∧ n ≤ 1000000000 ∧ gA n d = 1 := by
  unfold ckE at h
  cases hr : rgB n d
  · rw [hr] at h
    have hg : gA n d = 1 := by
      apply Classical.byContradiction; intro hg; simp [hg] at h
    simp [rgB] at hr
    exact ⟨by omega, by omega, by omega, by omega, hg⟩
  · simp [hr] at h

/-- A valid fraction is what New makes of it. -/
theorem nw_id {n d : Int} (h : ckE n d = 0) : nwE n d = 0 ∧ nwN n d = n ∧ nwD n d = d := by
  obtain ⟨a, b, c, e, g⟩ := ck_ok h
  have hd : d ≠ 0 := by omega
  have hN : pN n d = n.natAbs := by unfold pN; rw [g, Nat.div_one]
  have hD : pD n d = d.natAbs := by unfold pD; rw [g, Nat.div_one]
  have ho : ovB n d = false := by simp [ovB, hN, hD]; omega
  refine ⟨by simp [nwE, hd, ho], ?_, by simp [nwD, hd, ho, hD]; omega⟩
  simp only [nwN, hd, ho, hN, if_false, Bool.false_eq_true]
  unfold ngB
  by_cases a' : n < 0 <;> simp [a', show ¬ d < 0 by omega] <;> omega
/-- The numerator and the denominator that an operation gives to New. -/
def opN (op n1 d1 n2 d2 : Int) : Int := if op = 0 then n1 * d2 + n2 * d1 else if op = 1 then n1 * d2 - n2 * d1 else if op = 2 then n1 * n2 else n1 * d2
def opD (op d1 n2 d2 : Int) : Int := if op = 0 then d1 * d2 else if op = 1 then d1 * d2 else if op = 2 then d1 * d2 else d1 * n2
def bothE (n1 d1 n2 d2 : Int) : Int := if ckE n1 d1 = 0 then ckE n2 d2 else ckE n1 d1
def cbE (op n1 d1 n2 d2 : Int) : Int := if bothE n1 d1 n2 d2 = 0 then nwE (opN op n1 d1 n2 d2) (opD op d1 n2 d2) else bothE n1 d1 n2 d2
def cbN (op n1 d1 n2 d2 : Int) : Int := if bothE n1 d1 n2 d2 = 0 then nwN (opN op n1 d1 n2 d2) (opD op d1 n2 d2) else 0
def cbD (op n1 d1 n2 d2 : Int) : Int := if bothE n1 d1 n2 d2 = 0 then nwD (opN op n1 d1 n2 d2) (opD op d1 n2 d2) else 0
def cpV (n1 d1 n2 d2 : Int) : Int := if bothE n1 d1 n2 d2 = 0 then (if n1 * d2 < n2 * d1 then -1 else if n2 * d1 < n1 * d2 then 1 else 0) else 0

theorem both_ok {n1 d1 n2 d2 : Int} (h : bothE n1 d1 n2 d2 = 0) : ckE n1 d1 = 0 ∧ ckE n2 d2 = 0 := by
  unfold bothE at h; split at h <;> omega
theorem both_of {n1 d1 n2 d2 : Int} (h1 : ckE n1 d1 = 0) (h2 : ckE n2 d2 = 0) : bothE n1 d1 n2 d2 = 0 := by
  unfold bothE; rw [if_pos h1]; exact h2
theorem cb_of {op n1 d1 n2 d2 : Int} (h1 : ckE n1 d1 = 0) (h2 : ckE n2 d2 = 0) :
    cbE op n1 d1 n2 d2 = nwE (opN op n1 d1 n2 d2) (opD op d1 n2 d2) ∧ cbN op n1 d1 n2 d2 = nwN (opN op n1 d1 n2 d2) (opD op d1 n2 d2) ∧ cbD op n1 d1 n2 d2 = nwD (opN op n1 d1 n2 d2) (opD op d1 n2 d2) := by
  have h := both_of h1 h2
  simp [cbE, cbN, cbD, h]

theorem cb_comm {op n1 d1 n2 d2 : Int} (ho : op = 0 ∨ op = 2) (h1 : ckE n1 d1 = 0) (h2 : ckE n2 d2 = 0) :
    cbE op n1 d1 n2 d2 = cbE op n2 d2 n1 d1 ∧ cbN op n1 d1 n2 d2 = cbN op n2 d2 n1 d1 ∧ cbD op n1 d1 n2 d2 = cbD op n2 d2 n1 d1 := by
  obtain ⟨a1, a2, a3⟩ := cb_of (op := op) h1 h2
  obtain ⟨b1, b2, b3⟩ := cb_of (op := op) h2 h1
  have hn : opN op n1 d1 n2 d2 = opN op n2 d2 n1 d1 := by rcases ho with rfl | rfl <;> simp [opN] <;> grind
  have hd : opD op d1 n2 d2 = opD op d2 n1 d1 := by rcases ho with rfl | rfl <;> simp [opD] <;> grind
  rw [a1, a2, a3, b1, b2, b3, hn, hd]
  exact ⟨rfl, rfl, rfl⟩

/-- What an operation answers without an error. -/
theorem cb_val {op n1 d1 n2 d2 : Int} (h1 : ckE n1 d1 = 0) (h2 : ckE n2 d2 = 0) (h : cbE op n1 d1 n2 d2 = 0) :
    cbN op n1 d1 n2 d2 * opD op d1 n2 d2 = opN op n1 d1 n2 d2 * cbD op n1 d1 n2 d2 ∧ ckE (cbN op n1 d1 n2 d2) (cbD op n1 d1 n2 d2) = 0 ∧ 0 < cbD op n1 d1 n2 d2 := by
  obtain ⟨a1, a2, a3⟩ := cb_of (op := op) h1 h2
  rw [a1] at h
  rw [a2, a3]
  exact (nw_ok h).2

theorem cb_assoc {op n1 d1 n2 d2 n3 d3 : Int} (ho : op = 0 ∨ op = 2) (h1 : ckE n1 d1 = 0) (h2 : ckE n2 d2 = 0) (h3 : ckE n3 d3 = 0)
    (e : cbE op n1 d1 n2 d2 = 0) (g : cbE op n2 d2 n3 d3 = 0) :
    cbE op (cbN op n1 d1 n2 d2) (cbD op n1 d1 n2 d2) n3 d3 = cbE op n1 d1 (cbN op n2 d2 n3 d3) (cbD op n2 d2 n3 d3) ∧
    cbN op (cbN op n1 d1 n2 d2) (cbD op n1 d1 n2 d2) n3 d3 = cbN op n1 d1 (cbN op n2 d2 n3 d3) (cbD op n2 d2 n3 d3) ∧
    cbD op (cbN op n1 d1 n2 d2) (cbD op n1 d1 n2 d2) n3 d3 = cbD op n1 d1 (cbN op n2 d2 n3 d3) (cbD op n2 d2 n3 d3) := by
  obtain ⟨v1, c1, p1⟩ := cb_val h1 h2 e
  obtain ⟨v2, c2, p2⟩ := cb_val h2 h3 g
  generalize cbN op n1 d1 n2 d2 = N at *
  generalize cbD op n1 d1 n2 d2 = D at *
  generalize cbN op n2 d2 n3 d3 = M at *
  generalize cbD op n2 d2 n3 d3 = E at *
  obtain ⟨a1, a2, a3⟩ := cb_of (op := op) c1 h3
  obtain ⟨b1, b2, b3⟩ := cb_of (op := op) h1 c2
  rw [a1, a2, a3, b1, b2, b3]
  have q1 := (ck_ok h1).1
  have q2 := (ck_ok h2).1
  have q3 := (ck_ok h3).1
  have m1 : d1 * d2 ≠ 0 := by intro h; rcases Int.mul_eq_zero.1 h with h | h <;> omega
  have m2 : d2 * d3 ≠ 0 := by intro h; rcases Int.mul_eq_zero.1 h with h | h <;> omega
  have mD : D * d3 ≠ 0 := by intro h; rcases Int.mul_eq_zero.1 h with h | h <;> omega
  have mE : d1 * E ≠ 0 := by intro h; rcases Int.mul_eq_zero.1 h with h | h <;> omega
  have m3 : d1 * d2 * d3 ≠ 0 := by intro h; rcases Int.mul_eq_zero.1 h with h | h <;> omega
  rcases ho with rfl | rfl
  · simp only [opN, opD, if_true] at *
    refine nw_eq mD mE ?_
    have k2 : d2 ≠ 0 := by omega
    have : d2 * ((N * d3 + n3 * D) * (d1 * E)) = d2 * ((n1 * E + M * d1) * (D * d3)) := by grind
    exact Int.eq_of_mul_eq_mul_left k2 this
  · simp only [opN, opD, show ¬ (2 : Int) = 0 by decide, show ¬ (2 : Int) = 1 by decide, if_true, if_false] at *
    refine nw_eq mD mE ?_
    have k2 : d2 ≠ 0 := by omega
    have : d2 * ((N * n3) * (d1 * E)) = d2 * ((n1 * M) * (D * d3)) := by grind
    exact Int.eq_of_mul_eq_mul_left k2 this

theorem cb_back {op n1 d1 n2 d2 : Int} (ho : op = 0 ∨ op = 2) (h1 : ckE n1 d1 = 0) (h2 : ckE n2 d2 = 0) (e : cbE op n1 d1 n2 d2 = 0) (hz : op = 0 ∨ n2 ≠ 0) :
    cbE (op + 1) (cbN op n1 d1 n2 d2) (cbD op n1 d1 n2 d2) n2 d2 = 0 ∧ cbN (op + 1) (cbN op n1 d1 n2 d2) (cbD op n1 d1 n2 d2) n2 d2 = n1 ∧ cbD (op + 1) (cbN op n1 d1 n2 d2) (cbD op n1 d1 n2 d2) n2 d2 = d1 := by
  obtain ⟨v1, c1, p1⟩ := cb_val h1 h2 e
  generalize cbN op n1 d1 n2 d2 = N at *
  generalize cbD op n1 d1 n2 d2 = D at *
  obtain ⟨a1, a2, a3⟩ := cb_of (op := op + 1) c1 h2
  obtain ⟨i1, i2, i3⟩ := nw_id h1
  rw [a1, a2, a3]
  have q1 := (ck_ok h1).1
  have q2 := (ck_ok h2).1
  have d0 : d1 ≠ 0 := by omega
  have k2 : d2 ≠ 0 := by omega
  have fin : ∀ A B, B ≠ 0 → A * d1 = n1 * B → nwE A B = 0 ∧ nwN A B = n1 ∧ nwD A B = d1 := by
    intro A B hB h
    obtain ⟨r1, r2, r3⟩ := nw_eq hB d0 h
    rw [r1, r2, r3]; exact ⟨i1, i2, i3⟩
  rcases ho with rfl | rfl
  · simp only [opN, opD, if_true, show (0 + 1 : Int) = 1 by decide] at *
    refine fin _ _ (by intro h; rcases Int.mul_eq_zero.1 h with h | h <;> omega) ?_
    grind
  · have hn : n2 ≠ 0 := by rcases hz with h | h; exact absurd h (by decide); exact h
    simp only [opN, opD, show ¬ (2 : Int) = 0 by decide, show ¬ (2 : Int) = 1 by decide, show ¬ (2 + 1 : Int) = 0 by decide, show ¬ (2 + 1 : Int) = 1 by decide, show ¬ (2 + 1 : Int) = 2 by decide, if_true, if_false] at *
    refine fin _ _ (by intro h; rcases Int.mul_eq_zero.1 h with h | h <;> omega) ?_
    have : d2 * ((N * d2) * d1) = d2 * (n1 * (D * n2)) := by grind
    exact Int.eq_of_mul_eq_mul_left k2 this

theorem cp_neg (n1 d1 n2 d2 : Int) : cpV n1 d1 n2 d2 = -cpV n2 d2 n1 d1 := by
  unfold cpV bothE
  by_cases h1 : ckE n1 d1 = 0 <;> by_cases h2 : ckE n2 d2 = 0 <;> simp [h1, h2]
  split <;> split <;> omega

/-- The sign of a difference. -/
theorem cp_sub {n1 d1 n2 d2 : Int} (h : cbE 1 n1 d1 n2 d2 = 0) : (0 < cbN 1 n1 d1 n2 d2 ↔ 0 < cpV n1 d1 n2 d2) ∧ (cbN 1 n1 d1 n2 d2 < 0 ↔ cpV n1 d1 n2 d2 < 0) := by
  have hb : bothE n1 d1 n2 d2 = 0 := by
    apply Classical.byContradiction; intro hb
    simp only [cbE, hb, if_false] at h
  obtain ⟨h1, h2⟩ := both_ok hb
  obtain ⟨v, c, p⟩ := cb_val h1 h2 h
  have q1 := (ck_ok h1).1
  have q2 := (ck_ok h2).1
  have m : 0 < d1 * d2 := Int.mul_pos (by omega) (by omega)
  generalize cbN 1 n1 d1 n2 d2 = N at *
  generalize cbD 1 n1 d1 n2 d2 = D at *
  simp only [opN, opD, show ¬ (1 : Int) = 0 by decide, if_false, if_true] at v
  simp only [cpV, hb, if_true]
  generalize n1 * d2 = A at *
  generalize n2 * d1 = B at *
  generalize d1 * d2 = C at *
  have s1 : 0 < N ↔ B < A := by
    constructor
    · intro hN
      have := Int.mul_pos hN m
      rw [v] at this
      have := Int.pos_of_mul_pos_left this p
      omega
    · intro hA
      have : 0 < (A - B) * D := Int.mul_pos (by omega) p
      rw [← v] at this
      exact Int.pos_of_mul_pos_left this m
  have s2 : N < 0 ↔ A < B := by
    constructor
    · intro hN
      have : 0 < (-N) * C := Int.mul_pos (by omega) m
      have : 0 < (B - A) * D := by have e : (B - A) * D = (-N) * C := by grind
                                   rw [e]; exact this
      have := Int.pos_of_mul_pos_left this p
      omega
    · intro hA
      have : 0 < (B - A) * D := Int.mul_pos (by omega) p
      have : 0 < (-N) * C := by have e : (-N) * C = (B - A) * D := by grind
                                rw [e]; exact this
      have := Int.pos_of_mul_pos_left this m
      omega
  split <;> (try split) <;> constructor <;> omega

theorem cp_trans {n1 d1 n2 d2 n3 d3 : Int} (h1 : ckE n1 d1 = 0) (h2 : ckE n2 d2 = 0) (h3 : ckE n3 d3 = 0) (a : cpV n1 d1 n2 d2 ≤ 0) (b : cpV n2 d2 n3 d3 ≤ 0) : cpV n1 d1 n3 d3 ≤ 0 := by
  simp only [cpV, both_of h1 h2, both_of h2 h3, both_of h1 h3, if_true] at *
  have q1 := (ck_ok h1).1
  have q2 := (ck_ok h2).1
  have q3 := (ck_ok h3).1
  have a' : n1 * d2 ≤ n2 * d1 := by split at a; omega; split at a; omega; omega
  have b' : n2 * d3 ≤ n3 * d2 := by split at b; omega; split at b; omega; omega
  have t1 : n1 * d2 * d3 ≤ n2 * d1 * d3 := Int.mul_le_mul_of_nonneg_right a' (by omega)
  have t2 : n2 * d3 * d1 ≤ n3 * d2 * d1 := Int.mul_le_mul_of_nonneg_right b' (by omega)
  have t3 : (n1 * d3) * d2 ≤ (n3 * d1) * d2 := by
    have e1 : (n1 * d3) * d2 = n1 * d2 * d3 := by grind
    have e2 : (n3 * d1) * d2 = n3 * d2 * d1 := by grind
    have e3 : n2 * d1 * d3 = n2 * d3 * d1 := by grind
    omega
  have := Int.le_of_mul_le_mul_right t3 (by omega)
  split; omega; split; omega; omega

theorem cp_zero {n1 d1 n2 d2 : Int} (h1 : ckE n1 d1 = 0) (h2 : ckE n2 d2 = 0) : cpV n1 d1 n2 d2 = 0 ↔ (n1 = n2 ∧ d1 = d2) := by
  simp only [cpV, both_of h1 h2, if_true]
  have q1 := (ck_ok h1).1
  have q2 := (ck_ok h2).1
  obtain ⟨i1, i2, i3⟩ := nw_id h1
  obtain ⟨j1, j2, j3⟩ := nw_id h2
  constructor
  · intro h
    have e : n1 * d2 = n2 * d1 := by split at h; omega; split at h; omega; omega
    obtain ⟨r1, r2, r3⟩ := nw_eq (n := n1) (d := d1) (n' := n2) (d' := d2) (by omega) (by omega) e
    omega
  · rintro ⟨rfl, rfl⟩; simp
theorem tdm_of {a b Q R : Int} (hb : 0 < b) (e : a = b * Q + R) (hp : 0 ≤ a → 0 ≤ R ∧ R < b) (hn : a ≤ 0 → R ≤ 0 ∧ -b < R) : a.tdiv b = Q ∧ a.tmod b = R := by
  have hd := Int.mul_tdiv_add_tmod a b
  rcases Int.le_total 0 a with h | h
  · obtain ⟨r1, r2⟩ := hp h
    have q : a.tdiv b = Q := by
      rw [Int.tdiv_eq_ediv_of_nonneg h]
      have := (Int.ediv_emod_unique hb (a := a) (q := Q) (r := R)).2 ⟨by omega, r1, r2⟩
      exact this.1
    rw [q] at hd
    exact ⟨q, by omega⟩
  · obtain ⟨r1, r2⟩ := hn h
    have q : a.tdiv b = Q := by
      have h' : 0 ≤ -a := by omega
      have h2 : (-a).tdiv b = -Q := by
        rw [Int.tdiv_eq_ediv_of_nonneg h']
        have := (Int.ediv_emod_unique hb (a := -a) (q := -Q) (r := -R)).2 ⟨by rw [Int.mul_neg]; omega, by omega, by omega⟩
        exact this.1
      rw [Int.neg_tdiv] at h2
      omega
    rw [q] at hd
    exact ⟨q, by omega⟩

/-- Division of a product by way of the quotient and the remainder of one factor. -/
theorem of_parts (x num den : Int) (hd : 0 < den) :
    (x * num).tdiv den = x.tdiv den * num + (x.tmod den * num).tdiv den ∧ (x * num).tmod den = (x.tmod den * num).tmod den := by
  have e1 := Int.mul_tdiv_add_tmod x den
  have e2 := Int.mul_tdiv_add_tmod (x.tmod den * num) den
  have m1 := Int.tmod_lt_of_pos (x.tmod den * num) hd
  have m2 := Int.lt_tmod_of_pos (x.tmod den * num) hd
  have sx : 0 ≤ x → 0 ≤ x.tmod den := fun h => Int.tmod_nonneg _ h
  have sx' : x ≤ 0 → x.tmod den ≤ 0 := fun h => by
    have := Int.tmod_nonneg den (show 0 ≤ -x by omega)
    rw [Int.neg_tmod] at this; omega
  have sy : 0 ≤ x.tmod den * num → 0 ≤ (x.tmod den * num).tmod den := fun h => Int.tmod_nonneg _ h
  have sy' : x.tmod den * num ≤ 0 → (x.tmod den * num).tmod den ≤ 0 := fun h => by
    have := Int.tmod_nonneg den (show 0 ≤ -(x.tmod den * num) by omega)
    rw [Int.neg_tmod] at this; omega
  have key : x * num = den * (x.tdiv den * num + (x.tmod den * num).tdiv den) + (x.tmod den * num).tmod den := by
    have : x * num = (den * x.tdiv den + x.tmod den) * num := by rw [e1]
    grind
  have pos : 0 ≤ x * num → 0 ≤ x.tmod den * num := by
    intro h
    rcases Int.le_total 0 x with a | a <;> rcases Int.le_total 0 num with b | b
    · exact Int.mul_nonneg (sx a) b
    · rcases Int.lt_or_eq_of_le a with a' | a'
      · rcases Int.lt_or_eq_of_le b with b' | b'
        · have := Int.mul_neg_of_pos_of_neg a' b'; omega
        · rw [b']; omega
      · have : x.tmod den = 0 := by rw [← a']; simp
        rw [this]; omega
    · rcases Int.lt_or_eq_of_le a with a' | a'
      · rcases Int.lt_or_eq_of_le b with b' | b'
        · have := Int.mul_neg_of_neg_of_pos a' b'; omega
        · rw [← b']; omega
      · have : x.tmod den = 0 := by rw [a']; simp
        rw [this]; omega
    · exact Int.mul_nonneg_of_nonpos_of_nonpos (sx' a) b
  have neg : x * num ≤ 0 → x.tmod den * num ≤ 0 := by
    intro h
    rcases Int.le_total 0 x with a | a <;> rcases Int.le_total 0 num with b | b
    · rcases Int.lt_or_eq_of_le a with a' | a'
      · rcases Int.lt_or_eq_of_le b with b' | b'
        · have := Int.mul_pos a' b'; omega
        · rw [← b']; omega
      · have : x.tmod den = 0 := by rw [← a']; simp
        rw [this]; omega
    · exact Int.mul_nonpos_of_nonneg_of_nonpos (sx a) b
    · exact Int.mul_nonpos_of_nonpos_of_nonneg (sx' a) b
    · rcases Int.lt_or_eq_of_le a with a' | a'
      · rcases Int.lt_or_eq_of_le b with b' | b'
        · have := Int.mul_pos_of_neg_of_neg a' b'; omega
        · rw [b']; omega
      · have : x.tmod den = 0 := by rw [a']; simp
        rw [this]; omega
  exact tdm_of hd key (fun h => ⟨sy (pos h), m1⟩) (fun h => ⟨sy' (neg h), by omega⟩)
/-- The quotient towards zero and the remainder of the fraction of an amount, the step that rounds it, and what Of answers. -/
def qT (n d x : Int) : Int := (x * n).tdiv d
def rT (n d x : Int) : Int := (x * n).tmod d
def dirV (r : Int) : Int := if r < 0 then -1 else if 0 < r then 1 else 0
def stV (q r d m : Int) : Int := if m = 0 then (if r < 0 then -1 else 0) else if m = 1 then (if 0 < r then 1 else 0) else
  if m = 2 then (if d < 2 * r * dirV r then dirV r else if 2 * r * dirV r = d then (if q.tmod 2 = 0 then 0 else dirV r) else 0) else 0
def amA (x : Int) : Bool := decide (-1000000000000000 ≤ x) && decide (x ≤ 1000000000000000)
def ofS (n d x m : Int) : Int := stV (qT n d x) (rT n d x) d m
def ofE (n d x m : Int) : Int := if ckE n d = 0 then (if m < 0 ∨ 3 < m then 2 else if amA x then (if amA (qT n d x + ofS n d x m) then 0 else 12) else 12) else ckE n d
def ofV (n d x m : Int) : Int := if ofE n d x m = 0 then qT n d x + ofS n d x m else 0
def ofN (n d x m : Int) : Int := if ofE n d x m = 0 then nwN (rT n d x - ofS n d x m * d) d else 0
def ofD (n d x m : Int) : Int := if ofE n d x m = 0 then nwD (rT n d x - ofS n d x m * d) d else 0

theorem amA_iff {x : Int} : amA x = true ↔ -1000000000000000 ≤ x ∧ x ≤ 1000000000000000 := by simp [amA]

theorem of_ok {n d x m : Int} (h : ofE n d x m = 0) : ckE n d = 0 ∧ 0 ≤ m ∧ m ≤ 3 ∧ amA x = true ∧ amA (qT n d x + ofS n d x m) = true := by
  unfold ofE at h
  split at h
  · rename_i hc
    split at h
    · omega
    · split at h
      · split at h
        · rename_i hm ha hb
          exact ⟨hc, by omega, by omega, ha, hb⟩
        · omega
      · omega
  · rename_i hc; exact absurd h hc

theorem rT_bd (n d x : Int) (hd : 0 < d) : -d < rT n d x ∧ rT n d x < d := ⟨Int.lt_tmod_of_pos _ hd, Int.tmod_lt_of_pos _ hd⟩

theorem ov_small {a d : Int} (hd : 0 < d) (hd2 : d ≤ 1000000000) (h1 : -d ≤ a) (h2 : a ≤ d) : nwE a d = 0 := by
  have h0 : d ≠ 0 := by omega
  have e1 : pN a d ≤ a.natAbs := Nat.div_le_self _ _
  have e2 : pD a d ≤ d.natAbs := Nat.div_le_self _ _
  have : ovB a d = false := by simp [ovB]; omega
  simp [nwE, h0, this]

theorem st_bd {q r d m : Int} (h1 : -d < r) (h2 : r < d) : -d ≤ r - stV q r d m * d ∧ r - stV q r d m * d ≤ d := by
  have hs : (stV q r d m = 0) ∨ (stV q r d m = 1 ∧ 0 < r) ∨ (stV q r d m = -1 ∧ r < 0) := by
    unfold stV dirV; grind
  rcases hs with h | ⟨h, h'⟩ | ⟨h, h'⟩ <;> rw [h] <;> omega

/-- The remainder of Of has the value of what is left. -/
theorem of_rem {n d x m : Int} (h : ofE n d x m = 0) : nwE (rT n d x - ofS n d x m * d) d = 0 ∧ ofN n d x m * d = (rT n d x - ofS n d x m * d) * ofD n d x m ∧ 0 < ofD n d x m ∧ 0 < d := by
  obtain ⟨hc, _, _, _, _⟩ := of_ok h
  have hd := (ck_ok hc).1
  have hb := rT_bd n d x (by omega)
  have hs := st_bd (q := qT n d x) (m := m) hb.1 hb.2
  have e : nwE (rT n d x - ofS n d x m * d) d = 0 := ov_small (by omega) (ck_ok hc).2.1 hs.1 hs.2
  obtain ⟨_, v, _, p⟩ := nw_ok e
  simp only [ofN, ofD, h, if_true]
  exact ⟨e, v, p, by omega⟩

theorem sgn_pos {N d A D : Int} (hd : 0 < d) (hD : 0 < D) (h : N * d = A * D) : (0 < N ↔ 0 < A) ∧ (N < 0 ↔ A < 0) ∧ (N = 0 ↔ A = 0) := by
  have key : (0 < N → 0 < A) ∧ (N < 0 → A < 0) ∧ (N = 0 → A = 0) := by
    refine ⟨fun hN => ?_, fun hN => ?_, fun hN => ?_⟩
    · have := Int.mul_pos hN hd
      rw [h] at this
      exact Int.pos_of_mul_pos_left this hD
    · have : 0 < (-N) * d := Int.mul_pos (by omega) hd
      have e : (-N) * d = (-A) * D := by grind
      rw [e] at this
      have := Int.pos_of_mul_pos_left this hD
      omega
    · rw [hN, Int.zero_mul] at h
      rcases Int.mul_eq_zero.1 h.symm with h | h <;> omega
  refine ⟨⟨key.1, fun hA => ?_⟩, ⟨key.2.1, fun hA => ?_⟩, ⟨key.2.2, fun hA => ?_⟩⟩ <;>
  · apply Classical.byContradiction
    intro hN
    rcases Int.lt_trichotomy N 0 with a | a | a
    · have := key.2.1 a; omega
    · have := key.2.2 a; omega
    · have := key.1 a; omega

theorem qr_neg (n d x : Int) : qT n d (-x) = -qT n d x ∧ rT n d (-x) = -rT n d x := by
  unfold qT rT
  rw [Int.neg_mul, Int.neg_tdiv, Int.neg_tmod]
  exact ⟨rfl, rfl⟩

theorem rT_sgn {n d x : Int} : (0 ≤ x * n → 0 ≤ rT n d x) ∧ (x * n ≤ 0 → rT n d x ≤ 0) := by
  unfold rT
  refine ⟨fun h => Int.tmod_nonneg _ h, fun h => ?_⟩
  have := Int.tmod_nonneg d (show 0 ≤ -(x * n) by omega)
  rw [Int.neg_tmod] at this; omega

theorem st_0 (q r d : Int) : stV q r d 0 = if r < 0 then -1 else 0 := by simp [stV]
theorem st_1 (q r d : Int) : stV q r d 1 = if 0 < r then 1 else 0 := by simp [stV]
theorem st_3 (q r d : Int) : stV q r d 3 = 0 := by simp [stV]
theorem tm2 (q : Int) : q.tmod 2 = 0 ↔ q % 2 = 0 := by
  constructor
  · intro h; exact Int.emod_eq_zero_of_dvd (Int.dvd_of_tmod_eq_zero h)
  · intro h; exact Int.tmod_eq_zero_of_dvd (Int.dvd_of_emod_eq_zero h)
theorem st_2 (q r d : Int) (hd : 0 < d) (h1 : -d < r) (h2 : r < d) :
    (stV q r d 2 = 0 ∨ (stV q r d 2 = 1 ∧ 0 < r) ∨ (stV q r d 2 = -1 ∧ r < 0)) ∧
    2 * (r - stV q r d 2 * d) ≤ d ∧ -d ≤ 2 * (r - stV q r d 2 * d) ∧
    (2 * (r - stV q r d 2 * d) = d ∨ 2 * (r - stV q r d 2 * d) = -d → (q + stV q r d 2).tmod 2 = 0) := by
  unfold stV dirV
  simp only [tm2, show ¬ (2 : Int) = 0 by decide, show ¬ (2 : Int) = 1 by decide, if_false, if_true]
  rcases Int.lt_trichotomy r 0 with h | h | h
  · simp only [h, if_true]
    split
    · refine ⟨Or.inr (Or.inr ⟨rfl, trivial⟩), by omega, by omega, by omega⟩
    · split
      · split
        · refine ⟨Or.inl rfl, by omega, by omega, fun _ => by omega⟩
        · refine ⟨Or.inr (Or.inr ⟨rfl, trivial⟩), by omega, by omega, fun _ => by omega⟩
      · refine ⟨Or.inl rfl, by omega, by omega, by omega⟩
  · subst h
    simp only [Int.lt_irrefl, if_false]
    split
    · refine ⟨Or.inl rfl, by omega, by omega, by omega⟩
    · split
      · omega
      · refine ⟨Or.inl rfl, by omega, by omega, by omega⟩
  · simp only [h, show ¬ r < 0 by omega, if_true, if_false]
    split
    · refine ⟨Or.inr (Or.inl ⟨rfl, trivial⟩), by omega, by omega, by omega⟩
    · split
      · split
        · refine ⟨Or.inl rfl, by omega, by omega, fun _ => by omega⟩
        · refine ⟨Or.inr (Or.inl ⟨rfl, trivial⟩), by omega, by omega, fun _ => by omega⟩
      · refine ⟨Or.inl rfl, by omega, by omega, by omega⟩
end Go.Proofs.YtjjaemobgfconaaDoor
