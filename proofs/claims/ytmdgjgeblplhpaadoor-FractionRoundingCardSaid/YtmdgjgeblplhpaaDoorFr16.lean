/-
  Plain arithmetic, no program: what FractionRounding asks of the answers of Of.
-/
import Derived.Test.YtmdgjgeblplhpaaDoorFr1
namespace Go.Proofs.YtmdgjgeblplhpaaDoor

structure Rd (n d x : Int) : Prop where
  em : ofE n d (-x) 0 = 0
  vm : ofV n d (-x) 0 = -ofV n d x 1
  lo : ¬ ofN n d x 0 < 0
  hi : ¬ 0 < ofN n d x 1
  near : ofV n d x 1 - ofV n d x 0 ≤ 1
  same : ofV n d x 1 = ofV n d x 0 ↔ ofN n d x 0 = 0
  even : ofV n d x 2 = ofV n d x 0 ∨ ofV n d x 2 = ofV n d x 1
  up : 2 * ofN n d x 2 ≤ ofD n d x 2
  dn : -2 * ofN n d x 2 ≤ ofD n d x 2
  tie : 2 * ofN n d x 2 = ofD n d x 2 ∨ -2 * ofN n d x 2 = ofD n d x 2 → (ofV n d x 2).tmod 2 = 0
  neg : (x < 0 ∧ 0 < n) ∨ (0 < x ∧ n < 0) → ofV n d x 3 = ofV n d x 1
  pos : ¬ ((x < 0 ∧ 0 < n) ∨ (0 < x ∧ n < 0)) → ofV n d x 3 = ofV n d x 0
  b0 : -1000000000000000 ≤ ofV n d x 0 ∧ ofV n d x 0 ≤ 1000000000000000
  b1 : -1000000000000000 ≤ ofV n d x 1 ∧ ofV n d x 1 ≤ 1000000000000000
  b2 : -1000000000 ≤ ofN n d x 2 ∧ ofN n d x 2 ≤ 1000000000
  bx : -1000000000000000 ≤ x ∧ x ≤ 1000000000000000

theorem ofV_ok {n d x m : Int} (h : ofE n d x m = 0) : ofV n d x m = qT n d x + ofS n d x m := by simp [ofV, h]

theorem half {N D A d : Int} (hd : 0 < d) (hD : 0 < D) (h : N * d = A * D) : (2 * N ≤ D ↔ 2 * A ≤ d) ∧ (2 * N = D ↔ 2 * A = d) := by
  have e1 : (D - 2 * N) * d = (d - 2 * A) * D := by grind
  have s := sgn_pos hd hD e1
  exact ⟨⟨fun q => by
    by_cases c : d - 2 * A < 0
    · have := s.2.1.2 c; omega
    · omega, fun q => by
    by_cases c : D - 2 * N < 0
    · have := s.2.1.1 c; omega
    · omega⟩, ⟨fun q => by have := s.2.2.1 (by omega); omega, fun q => by have := s.2.2.2 (by omega); omega⟩⟩

theorem rd_of {n d x : Int} (h0 : ofE n d x 0 = 0) (h1 : ofE n d x 1 = 0) (h2 : ofE n d x 2 = 0) (h3 : ofE n d x 3 = 0) : Rd n d x := by
  obtain ⟨hc, _, _, hx, a0⟩ := of_ok h0
  obtain ⟨_, _, _, _, a1⟩ := of_ok h1
  obtain ⟨b1, b2, b3, b4, _⟩ := ck_ok hc
  have hd : 0 < d := by omega
  obtain ⟨r1, r2⟩ := rT_bd n d x hd
  obtain ⟨_, m0, p0, _⟩ := of_rem h0
  obtain ⟨_, m1, p1, _⟩ := of_rem h1
  obtain ⟨e2, m2, p2, _⟩ := of_rem h2
  have V0 := ofV_ok h0
  have V1 := ofV_ok h1
  have V2 := ofV_ok h2
  have V3 := ofV_ok h3
  have S0 : ofS n d x 0 = if rT n d x < 0 then -1 else 0 := st_0 _ _ _
  have S1 : ofS n d x 1 = if 0 < rT n d x then 1 else 0 := st_1 _ _ _
  have S3 : ofS n d x 3 = 0 := st_3 _ _ _
  obtain ⟨S2, T1, T2, T3⟩ := st_2 (qT n d x) (rT n d x) d hd r1 r2
  have eS2 : ofS n d x 2 = stV (qT n d x) (rT n d x) d 2 := rfl
  rw [← eS2] at S2 T1 T2 T3
  obtain ⟨qn, rn⟩ := qr_neg n d x
  have Sm : ofS n d (-x) 0 = -ofS n d x 1 := by
    unfold ofS; rw [qn, rn, st_0, st_1]; split <;> split <;> omega
  have xx := amA_iff.1 hx
  have hm : ofE n d (-x) 0 = 0 := by
    have ax : amA (-x) = true := amA_iff.2 (by omega)
    have aq : amA (qT n d (-x) + ofS n d (-x) 0) = true := by
      rw [qn, Sm]; have := amA_iff.1 a1; exact amA_iff.2 (by omega)
    simp [ofE, hc, ax, aq]
  have k0 := sgn_pos hd p0 m0
  have k1 := sgn_pos hd p1 m1
  have k2 := half hd p2 m2
  have m2' : (-ofN n d x 2) * d = (-(rT n d x - ofS n d x 2 * d)) * ofD n d x 2 := by
    rw [Int.neg_mul, Int.neg_mul, m2]
  have k3 := half hd p2 m2'
  have z := rT_sgn (n := n) (d := d) (x := x)
  have w0 := amA_iff.1 a0
  have w1 := amA_iff.1 a1
  have vN : -1000000000 ≤ ofN n d x 2 ∧ ofN n d x 2 ≤ 1000000000 := by
    have : ofN n d x 2 = nwN (rT n d x - ofS n d x 2 * d) d := by simp [ofN, h2]
    have c := ck_ok (nw_ok e2).2.2.1
    rw [this]; omega
  have f0 : rT n d x - ofS n d x 0 * d = if rT n d x < 0 then rT n d x + d else rT n d x := by rw [S0]; split <;> omega
  have f1 : rT n d x - ofS n d x 1 * d = if 0 < rT n d x then rT n d x - d else rT n d x := by rw [S1]; split <;> omega
  refine ⟨hm, ?_, ?_, ?_, ?_, ?_, ?_, ?_, ?_, ?_, ?_, ?_, by rw [V0]; exact w0, by rw [V1]; exact w1, vN, xx⟩
  · rw [ofV_ok hm, V1, qn, Sm]; omega
  · rw [k0.2.1, f0]; split <;> omega
  · rw [k1.1, f1]; split <;> omega
  · rw [V1, V0, S0, S1]; split <;> split <;> omega
  · rw [V1, V0, S0, S1, k0.2.2, f0]; split <;> split <;> omega
  · rw [V2, V1, V0, S0, S1]
    rcases S2 with s | ⟨s, t⟩ | ⟨s, t⟩ <;> rw [s] <;> (repeat' split) <;> omega
  · exact k2.1.2 T1
  · have := k3.1.2 (by omega); omega
  · intro h
    rw [V2]
    refine T3 ?_
    rcases h with h | h
    · exact Or.inl (k2.2.1 h)
    · exact Or.inr (by have := k3.2.1 (by omega); omega)
  · intro h
    have hp : x * n ≤ 0 := by
      rcases h with ⟨a, b⟩ | ⟨a, b⟩
      · exact Int.mul_nonpos_of_nonpos_of_nonneg (by omega) (by omega)
      · exact Int.mul_nonpos_of_nonneg_of_nonpos (by omega) (by omega)
    have := z.2 hp
    rw [V3, V1, S3, S1, if_neg (by omega)]
  · intro h
    have hp : 0 ≤ x * n := by
      rcases Int.lt_trichotomy x 0 with a | a | a <;> rcases Int.lt_trichotomy n 0 with b | b | b
      · exact Int.mul_nonneg_of_nonpos_of_nonpos (by omega) (by omega)
      · rw [b]; omega
      · exact absurd (Or.inl ⟨a, b⟩) h
      · rw [a]; omega
      · rw [a]; omega
      · rw [a]; omega
      · exact absurd (Or.inr ⟨a, b⟩) h
      · rw [b]; omega
      · exact Int.mul_nonneg (by omega) (by omega)
    have := z.1 hp
    rw [V3, V0, S3, S0, if_neg (by omega)]
end Go.Proofs.YtmdgjgeblplhpaaDoor
