/-
  Plain arithmetic, no program: long division of two words by two digits of 32 bits. Conditions: as stated.
-/
namespace Go.Proofs.YtjjaemobgfconaaDoor.Kn

theorem step_test (u un1 q r yn1 yn0 : Int) (hu : q * yn1 + r = u) :
    4294967296 * r + un1 < q * yn0 ↔ u * 4294967296 + un1 < q * (yn1 * 4294967296 + yn0) := by
  have e : q * (yn1 * 4294967296 + yn0) = q * yn1 * 4294967296 + q * yn0 := by
    rw [Int.mul_add, ← Int.mul_assoc]
  rw [e]; omega

theorem quo_lt {N V q : Int} (hV : 0 < V) (h : N < q * V) : N / V < q := Int.ediv_lt_of_lt_mul hV h
theorem le_quo {N V q : Int} (hV : 0 < V) (h : q * V ≤ N) : q ≤ N / V := (Int.le_ediv_iff_mul_le hV).2 h

/-- The state of the guess: q * yn1 + r = u; the true digit is at most q; q is at most 2^32 + 1. -/
structure Guess (u un1 yn1 yn0 q r : Int) : Prop where
  sum : q * yn1 + r = u
  ge : (u * 4294967296 + un1) / (yn1 * 4294967296 + yn0) ≤ q
  le : q ≤ 4294967297
  q0 : 0 ≤ q
  r0 : 0 ≤ r

/-- The divisor is normalized and the numerator's high word is below it. -/
structure Norm (u un1 yn1 yn0 : Int) : Prop where
  y1 : 2147483648 ≤ yn1
  y2 : yn1 < 4294967296
  z1 : 0 ≤ yn0
  z2 : yn0 < 4294967296
  u1 : 0 ≤ u
  u2 : u < yn1 * 4294967296 + yn0
  n1 : 0 ≤ un1
  n2 : un1 < 4294967296

variable {u un1 yn1 yn0 q r : Int}

theorem Norm.pos (h : Norm u un1 yn1 yn0) : 0 < yn1 * 4294967296 + yn0 := by
  have := h.y1; have := h.z1; omega

/-- The digit is below 2^32. -/
theorem Norm.digit (h : Norm u un1 yn1 yn0) : (u * 4294967296 + un1) / (yn1 * 4294967296 + yn0) ≤ 4294967295 := by
  have h1 := h.u2
  have h2 := h.n2
  have : (u * 4294967296 + un1) / (yn1 * 4294967296 + yn0) < 4294967296 := quo_lt h.pos (by omega)
  omega
theorem Norm.digit0 (h : Norm u un1 yn1 yn0) : 0 ≤ (u * 4294967296 + un1) / (yn1 * 4294967296 + yn0) :=
  Int.ediv_nonneg (by have := h.u1; have := h.n1; omega) (Int.le_of_lt h.pos)

/-- The first guess. -/
theorem Norm.first (h : Norm u un1 yn1 yn0) : Guess u un1 yn1 yn0 (u / yn1) (u - u / yn1 * yn1) := by
  have hy : 0 < yn1 := by have := h.y1; omega
  have e1 := Int.emod_nonneg u (show yn1 ≠ 0 by omega)
  have e2 := Int.emod_lt_of_pos u hy
  have e3 := Int.mul_ediv_add_emod u yn1
  have ec : u / yn1 * yn1 = yn1 * (u / yn1) := Int.mul_comm _ _
  have q0 : 0 ≤ u / yn1 := Int.ediv_nonneg h.u1 (by omega)
  refine ⟨by omega, ?_, ?_, q0, by omega⟩
  · -- N < (u / yn1 + 1) * V
    have : (u * 4294967296 + un1) / (yn1 * 4294967296 + yn0) < u / yn1 + 1 := by
      refine quo_lt h.pos ?_
      have ee : (u / yn1 + 1) * (yn1 * 4294967296 + yn0) = (u / yn1 * yn1 + yn1) * 4294967296 + (u / yn1 + 1) * yn0 := by
        rw [Int.mul_add, ← Int.mul_assoc, Int.add_mul (u / yn1) 1 yn1, Int.one_mul]
      have nn : 0 ≤ (u / yn1 + 1) * yn0 := Int.mul_nonneg (by omega) h.z1
      have := h.n2
      rw [ee]; omega
    omega
  · have : u / yn1 < 4294967298 := by
      refine quo_lt hy ?_
      have := h.u2; have := h.z2; have := h.y1
      omega
    omega

/-- The guess's remainder at first is below the divisor's high half. -/
theorem Norm.firstR (h : Norm u un1 yn1 yn0) : u - u / yn1 * yn1 < 4294967296 := by
  have hy : 0 < yn1 := by have := h.y1; omega
  have e2 := Int.emod_lt_of_pos u hy
  have e3 := Int.mul_ediv_add_emod u yn1
  have ec : u / yn1 * yn1 = yn1 * (u / yn1) := Int.mul_comm _ _
  have := h.y2
  omega

/-- The products do not wrap. -/
theorem Guess.mul_bd (h : Norm u un1 yn1 yn0) (g : Guess u un1 yn1 yn0 q r) (hq : q ≤ 4294967295) : 0 ≤ q * yn0 ∧ q * yn0 ≤ 18446744065119617025 := by
  have h1 : 0 ≤ q * yn0 := Int.mul_nonneg g.q0 h.z1
  have h2 : q * yn0 ≤ 4294967295 * 4294967295 := Int.mul_le_mul hq (by have := h.z2; omega) h.z1 (by decide)
  omega

/-- The test says no: the guess is the digit. -/
theorem Guess.stop (h : Norm u un1 yn1 yn0) (g : Guess u un1 yn1 yn0 q r) (t : ¬ 4294967296 * r + un1 < q * yn0) : (u * 4294967296 + un1) / (yn1 * 4294967296 + yn0) = q := by
  have h1 : ¬ (u * 4294967296 + un1 < q * (yn1 * 4294967296 + yn0)) := fun hh => t ((step_test u un1 q r yn1 yn0 g.sum).2 hh)
  have h2 := le_quo h.pos (show q * (yn1 * 4294967296 + yn0) ≤ u * 4294967296 + un1 by omega)
  have := g.ge
  omega

/-- The test says yes: the digit is below the guess. -/
theorem Guess.lt (h : Norm u un1 yn1 yn0) (g : Guess u un1 yn1 yn0 q r) (t : 4294967296 ≤ q ∨ 4294967296 * r + un1 < q * yn0) : (u * 4294967296 + un1) / (yn1 * 4294967296 + yn0) < q := by
  rcases t with t | t
  · have := h.digit; omega
  · exact quo_lt h.pos ((step_test u un1 q r yn1 yn0 g.sum).1 t)

theorem Guess.next (h : Norm u un1 yn1 yn0) (g : Guess u un1 yn1 yn0 q r) (t : 4294967296 ≤ q ∨ 4294967296 * r + un1 < q * yn0) : Guess u un1 yn1 yn0 (q - 1) (r + yn1) := by
  have hl := g.lt h t
  have hd := h.digit0
  refine ⟨?_, by omega, by have := g.le; omega, by omega, by have := g.r0; have := h.y1; omega⟩
  have := g.sum
  rw [Int.sub_mul, Int.one_mul]; omega

/-- The loop is left by its break: the guess is the digit. -/
theorem Guess.brk (h : Norm u un1 yn1 yn0) (g : Guess u un1 yn1 yn0 q r) (hq : q ≤ 4294967296) (hr : 4294967296 ≤ r) : (u * 4294967296 + un1) / (yn1 * 4294967296 + yn0) = q := by
  refine g.stop h ?_
  have h2 : q * yn0 ≤ 4294967296 * 4294967295 := Int.mul_le_mul hq (by have := h.z2; omega) h.z1 (by decide)
  have := h.n1
  omega

/-- What is left behind a step is below the divisor, and the wrapped arithmetic gives it. -/
theorem left_over {N V q : Int} (hV : 0 < V) (hV2 : V < 18446744073709551616) (h : N / V = q) : (N - q * V) % 18446744073709551616 = N % V ∧ 0 ≤ N % V ∧ N % V < V := by
  have e1 := Int.emod_nonneg N (show V ≠ 0 by omega)
  have e2 := Int.emod_lt_of_pos N hV
  have e3 := Int.mul_ediv_add_emod N V
  rw [h] at e3
  have ec : q * V = V * q := Int.mul_comm _ _
  refine ⟨?_, e1, e2⟩
  have : N - q * V = N % V := by omega
  rw [this]
  exact Int.emod_eq_of_lt e1 (by omega)

/-- Two digits make the quotient. -/
theorem two_digits {u un1 un0 V : Int} (hV : 0 < V) :
    ((u * 4294967296 + un1) * 4294967296 + un0) / V = (u * 4294967296 + un1) / V * 4294967296 + ((u * 4294967296 + un1) % V * 4294967296 + un0) / V ∧
    ((u * 4294967296 + un1) * 4294967296 + un0) % V = ((u * 4294967296 + un1) % V * 4294967296 + un0) % V := by
  generalize hN : u * 4294967296 + un1 = N
  have e3 := Int.mul_ediv_add_emod N V
  have e : N * 4294967296 + un0 = (N % V * 4294967296 + un0) + V * (N / V * 4294967296) := by
    rw [← Int.mul_assoc]; omega
  rw [e, Int.add_mul_ediv_left _ _ (by omega), Int.add_mul_emod_self_left]
  exact ⟨by omega, rfl⟩
end Go.Proofs.YtjjaemobgfconaaDoor.Kn
