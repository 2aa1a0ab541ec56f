/-
  Plain arithmetic, no program: what is needed is the least multiple of the lot whose value reaches the amount. Conditions: the arguments are accepted.
-/
import Derived.Test.YthgeeobbenjioabV2
namespace Go.Proofs.Ythgeeobbenjioab
set_option linter.unusedVariables false

theorem nE_ok {a p l n d : Int} (h : nE a p l n d = 0) : inN a p l n d ∧ (a = 0 ∨ (a ≠ 0 ∧ n < d ∧ nM a p l n d ≤ 1000000000000000)) := by
  unfold nE at h
  split at h
  · rename_i hi
    refine ⟨hi, ?_⟩
    split at h
    · rename_i h0; exact Or.inl h0
    · split at h
      · omega
      · split at h
        · rename_i h0 h1 h2
          have := hi.2.2.2.2.2
          exact Or.inr ⟨h0, by omega, h2⟩
        · omega
  · omega

theorem div_le_iff {x y k : Int} (hy : 0 < y) : k ≤ x / y ↔ k * y ≤ x := Int.le_ediv_iff_mul_le hy

/-- Value reaches an amount where the product reaches it. -/
theorem vQ_ge {q p n d a : Int} (hd : 0 < d) : a ≤ vQ q p n d ↔ a * d ≤ q * (p * (d - n)) := by
  unfold vQ; exact div_le_iff hd

theorem nU_le {a p n d q : Int} (hD : 0 < p * (d - n)) : nU a p n d ≤ q ↔ a * d ≤ q * (p * (d - n)) := by
  unfold nU
  generalize p * (d - n) = D at *
  generalize a * d = X at *
  have h : (X + (D - 1)) / D < q + 1 ↔ X + (D - 1) < (q + 1) * D := Int.ediv_lt_iff_lt_mul hD
  have e : (q + 1) * D = q * D + D := by rw [Int.add_mul, Int.one_mul]
  constructor
  · intro g
    have := h.1 (by omega)
    omega
  · intro g
    have := h.2 (by omega)
    omega

/-- What NeededLeast asks, where something is needed. -/
structure Lst (a p l n d : Int) : Prop where
  mul : (nV a p l n d).tmod l = 0
  err : vE (nV a p l n d) p n d = 0 ∨ vE (nV a p l n d) p n d = 12
  enough : vE (nV a p l n d) p n d = 0 → a ≤ vV (nV a p l n d) p n d
  zero : nV a p l n d = 0 → a = 0
  lessE : nV a p l n d ≠ 0 → vE (nV a p l n d - l) p n d = 0
  lessV : nV a p l n d ≠ 0 → vV (nV a p l n d - l) p n d < a
  l1 : 1 ≤ l
  l2 : l ≤ 1000000000000000
  b1 : 0 ≤ nV a p l n d
  b2 : nV a p l n d ≤ 1000000000000000

theorem lst_of {a p l n d : Int} (h : nE a p l n d = 0) : Lst a p l n d := by
  obtain ⟨hi, hc⟩ := nE_ok h
  obtain ⟨⟨a0, a1⟩, ⟨l0, l2⟩, ⟨p0, p1⟩, ⟨ck, n0, n1⟩⟩ := id hi
  obtain ⟨d0, d1, _, _, _⟩ := ck_ok ck
  have hd : 0 < d := by omega
  have inv : ∀ q, 0 ≤ q → q ≤ 1000000000000000 → inV q p n d := fun q h0 h1 => ⟨⟨h0, h1⟩, ⟨p0, p1⟩, ck, n0, n1⟩
  rcases hc with ha | ⟨ha, hn, hm⟩
  · subst ha
    have hV : nV 0 p l n d = 0 := by unfold nV; rw [if_pos h, if_pos rfl]
    have q0 : vQ 0 p n d = 0 := by unfold vQ; simp
    have e0 : vE 0 p n d = 0 := by unfold vE; rw [if_pos (inv 0 (by omega) (by omega)), q0]; rfl
    refine ⟨by rw [hV]; simp, by rw [hV, e0]; exact Or.inl rfl, fun _ => ?_, fun _ => rfl, fun g => absurd hV g, fun g => absurd hV g, l0, l2, by omega, by omega⟩
    rw [hV]; unfold vV; rw [if_pos e0, q0]; exact Int.le_refl _
  · have hV : nV a p l n d = nM a p l n d := by unfold nV; rw [if_pos h, if_neg ha]
    obtain ⟨D0, D1, D2⟩ := dv_bd ck n0 n1 p0 p1
    have D3 : 0 < p * (d - n) := by have := D2 hn; omega
    have hM : nM a p l n d = (nU a p n d + l - 1) / l * l := rfl
    have up := up_ge (x := nU a p n d) (show 0 < l by omega)
    rw [← hM] at up
    have T0 : 0 < a * d := Int.mul_pos (by omega) hd
    have U1 : ¬ nU a p n d ≤ 0 := fun g => by have := (nU_le D3).1 g; omega
    have M1 : 0 < nM a p l n d := by omega
    have ge : a * d ≤ nM a p l n d * (p * (d - n)) := (nU_le D3).1 up.1
    have k1 : 1 ≤ (nU a p n d + l - 1) / l := by
      apply Classical.byContradiction; intro c
      have : (nU a p n d + l - 1) / l ≤ 0 := by omega
      have := Int.mul_le_mul_of_nonneg_right this (show 0 ≤ l by omega)
      omega
    have Ml : l ≤ nM a p l n d := by
      have := Int.mul_le_mul_of_nonneg_right k1 (show 0 ≤ l by omega)
      omega
    have lt : ¬ a * d ≤ (nM a p l n d - l) * (p * (d - n)) := fun g => by
      have := (nU_le D3).2 g; omega
    have vl : ¬ a ≤ vQ (nM a p l n d - l) p n d := fun g => lt ((vQ_ge hd).1 g)
    have e1 : vE (nM a p l n d - l) p n d = 0 := by
      unfold vE; rw [if_pos (inv _ (by omega) (by omega)), if_pos (by omega)]
    have hin := inv (nM a p l n d) (by omega) hm
    refine ⟨?_, ?_, fun g => ?_, fun g => by omega, fun _ => by rw [hV]; exact e1, fun _ => ?_, l0, l2, by omega, by omega⟩
    · rw [hV, hM]; exact Int.mul_tmod_left _ _
    · rw [hV]; unfold vE; rw [if_pos hin]; split; exact Or.inl rfl; exact Or.inr rfl
    · rw [hV] at g ⊢
      unfold vV; rw [if_pos g]
      exact (vQ_ge hd).2 ge
    · rw [hV]; unfold vV; rw [if_pos e1]; omega
end Go.Proofs.Ythgeeobbenjioab
