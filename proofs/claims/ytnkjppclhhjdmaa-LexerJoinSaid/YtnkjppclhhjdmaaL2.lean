/-
  Plain mathematics of tokens: the tokens of a line, step by step.
-/
import Derived.Test.YtnkjppclhhjdmaaL1
set_option linter.unusedVariables false
set_option linter.unusedSimpArgs false
set_option linter.unnecessarySimpa false
namespace Lx

theorem run_drop {p : Nat → Bool} {l : List Nat} (h : run p l < l.length) : p ((l.drop (run p l)).getD 0 0) = false := by
  induction l with
  | nil => simp at h
  | cons a l ih =>
    by_cases hp : p a = true
    · have e : run p (a :: l) = run p l + 1 := by simp [run, hp]
      rw [e] at h ⊢
      simpa using ih (by simpa using h)
    · have e : run p (a :: l) = 0 := by simp [run, hp]
      rw [e]; simpa using hp
theorem run_pos {p : Nat → Bool} {l : List Nat} (h0 : l.length ≠ 0) (h : p (l.getD 0 0) = true) : 0 < run p l := by
  cases l with
  | nil => simp at h0
  | cons a l =>
    simp at h
    simp [run, h]

theorem rest_lt {l : List Nat} (h0 : ¬ ((rst l).length = 0 ∨ (rst l).getD 0 0 = 35)) : ((rst l).drop (wln l)).length < l.length := by
  have hlt : run blk l < l.length := by
    have h1 : ¬ (rst l).length = 0 := fun h => h0 (.inl h)
    unfold rst at h1
    rw [List.length_drop] at h1; omega
  have hb := run_drop hlt
  have hm : 0 < wln l := by
    unfold wln
    exact run_pos (fun h => h0 (.inl h)) (by unfold rst; rw [hb]; rfl)
  rw [List.length_drop]
  unfold rst
  rw [List.length_drop]; omega
theorem toks_more : ∀ (f n : Nat) (l : List Nat), l.length < f → toks (f + 1) n l = toks f n l
  | 0, n, l, h => by omega
  | f + 1, n, l, h => by
    rw [toks]
    conv => rhs; rw [toks]
    by_cases h0 : (rst l).length = 0 ∨ (rst l).getD 0 0 = 35
    · rw [if_pos h0, if_pos h0]
    · rw [if_neg h0, if_neg h0, toks_more f _ _ (by have := rest_lt h0; omega)]

theorem toks_any {f : Nat} (n : Nat) (l : List Nat) (h : l.length < f) : toks f n l = toks (l.length + 1) n l := by
  induction f with
  | zero => omega
  | succ f ih =>
    by_cases e : l.length = f
    · rw [e]
    · rw [toks_more f n l (by omega), ih (by omega)]

def tok (n : Nat) (l : List Nat) : List Tk × Nat × Nat := toks (l.length + 1) n l

theorem tok_eq (n : Nat) (l : List Nat) : tok n l =
    if (rst l).length = 0 ∨ (rst l).getD 0 0 = 35 then ([], 0, 0)
    else if kindE (wtx l) ≠ 0 then ([], n + run blk l, kindE (wtx l))
    else if (tok (n + run blk l + wln l) ((rst l).drop (wln l))).2.2 ≠ 0 then ([], (tok (n + run blk l + wln l) ((rst l).drop (wln l))).2.1, (tok (n + run blk l + wln l) ((rst l).drop (wln l))).2.2)
    else (⟨kindK (wtx l), wtx l, n + run blk l⟩ :: (tok (n + run blk l + wln l) ((rst l).drop (wln l))).1, 0, 0) := by
  conv => lhs; unfold tok; rw [toks]
  by_cases h0 : (rst l).length = 0 ∨ (rst l).getD 0 0 = 35
  · rw [if_pos h0, if_pos h0]
  · rw [if_neg h0, if_neg h0, toks_any _ _ (rest_lt h0)]
    rfl

/-- Tokens ahead. -/
def pre (L : List Tk) (q : List Tk × Nat × Nat) : List Tk × Nat × Nat := if q.2.2 ≠ 0 then ([], q.2.1, q.2.2) else (L ++ q.1, 0, 0)
theorem tok_zero (n : Nat) (l : List Nat) (h : (tok n l).2.2 = 0) : (tok n l).2.1 = 0 := by
  rw [tok_eq] at h ⊢
  by_cases h0 : (rst l).length = 0 ∨ (rst l).getD 0 0 = 35
  · rw [if_pos h0]
  · rw [if_neg h0] at h ⊢
    by_cases h1 : kindE (wtx l) ≠ 0
    · rw [if_pos h1] at h; exact absurd h h1
    · rw [if_neg h1] at h ⊢
      by_cases h2 : (tok (n + run blk l + wln l) ((rst l).drop (wln l))).2.2 ≠ 0
      · rw [if_pos h2] at h; exact absurd h h2
      · rw [if_neg h2]
theorem tok_nil (n : Nat) (l : List Nat) (h : (tok n l).2.2 ≠ 0) : (tok n l).1 = [] := by
  rw [tok_eq] at h ⊢
  by_cases h0 : (rst l).length = 0 ∨ (rst l).getD 0 0 = 35
  · rw [if_pos h0]
  · rw [if_neg h0] at h ⊢
    by_cases h1 : kindE (wtx l) ≠ 0
    · rw [if_pos h1]
    · rw [if_neg h1] at h ⊢
      by_cases h2 : (tok (n + run blk l + wln l) ((rst l).drop (wln l))).2.2 ≠ 0
      · rw [if_pos h2]
      · rw [if_neg h2] at h; exact absurd rfl h
theorem pre_nil (n : Nat) (l : List Nat) : pre [] (tok n l) = tok n l := by
  unfold pre
  by_cases h : (tok n l).2.2 = 0
  · rw [if_neg (by omega), List.nil_append]
    have h1 := tok_zero n l h
    exact Prod.ext rfl (Prod.ext h1.symm h.symm)
  · rw [if_pos h]
    exact Prod.ext (tok_nil n l h).symm rfl

/-- What has been read, and what is left. -/
def Mid (s : List Nat) (L : List Tk) (n : Nat) : Prop := n ≤ s.length ∧ tok 0 s = pre L (tok n (s.drop n))
theorem mid_start (s : List Nat) : Mid s [] 0 := ⟨Nat.zero_le _, by rw [List.drop_zero, pre_nil]⟩

theorem drop_cons {s : List Nat} {n : Nat} (h : n < s.length) : s.drop n = s.getD n 0 :: s.drop (n + 1) := by
  rw [List.getD_eq_getElem?_getD, List.getElem?_eq_getElem h, Option.getD_some]; exact (List.getElem_cons_drop h).symm

theorem run_cons {p : Nat → Bool} {a : Nat} {l : List Nat} (h : p a = true) : run p (a :: l) = run p l + 1 := by simp [run, h]
/-- One blank. -/
theorem tok_blank (n a : Nat) (l : List Nat) (h : blk a = true) : tok n (a :: l) = tok (n + 1) l := by
  have e0 : rst (a :: l) = rst l := by unfold rst; rw [run_cons h]; rfl
  have e2 : wln (a :: l) = wln l := by unfold wln; rw [e0]
  have e3 : wtx (a :: l) = wtx l := by unfold wtx; rw [e0, e2]
  have e1 : n + run blk (a :: l) = n + 1 + run blk l := by rw [run_cons h]; omega
  rw [tok_eq n, tok_eq (n + 1), e0, e1, e2, e3]
theorem mid_blank {s : List Nat} {L : List Tk} {n : Nat} (h : Mid s L n) (hlt : n < s.length) (hb : blk (s.getD n 0) = true) : Mid s L (n + 1) :=
  ⟨by omega, by rw [h.2, drop_cons hlt, tok_blank _ _ _ hb]⟩
/-- All blanks. -/
theorem mid_blanks {s : List Nat} {L : List Tk} : ∀ {k n : Nat}, Mid s L n → n + k ≤ s.length → (∀ j, j < k → blk (s.getD (n + j) 0) = true) → Mid s L (n + k)
  | 0, n, h, _, _ => h
  | k + 1, n, h, hk, hj => by
    have h1 := mid_blanks (k := k) h (by omega) (fun j hj' => hj j (by omega))
    have h2 := mid_blank h1 (by omega) (hj k (by omega))
    exact h2

/-- The end of the line, or a comment. -/
theorem mid_end {s : List Nat} {L : List Tk} {n : Nat} (h : Mid s L n) (he : n = s.length ∨ s.getD n 0 = 35) : tok 0 s = (L, 0, 0) := by
  have e : tok n (s.drop n) = ([], 0, 0) := by
    rw [tok_eq]
    by_cases hn : n = s.length
    · subst hn
      rw [if_pos (Or.inl (by simp [rst]))]
    · have hlt : n < s.length := by have := h.1; omega
      have hc : s.getD n 0 = 35 := by rcases he with h | h; exact absurd h hn; exact h
      have hb : run blk (s.drop n) = 0 := by rw [drop_cons hlt, hc]; rfl
      have hr : rst (s.drop n) = s.drop n := by unfold rst; rw [hb, List.drop_zero]
      rw [hr, if_pos (Or.inr (by rw [drop_cons hlt]; exact hc))]
  rw [h.2, e]
  simp [pre]

/-- A text of a token. -/
theorem mid_word {s : List Nat} {L : List Tk} {n m : Nat} (h : Mid s L n) (hlt : n < s.length) (hc : s.getD n 0 ≠ 35) (hb : blk (s.getD n 0) = false) (hm : run (fun c => !blk c) (s.drop n) = m) :
    (kindE ((s.drop n).take m) = 0 → Mid s (L ++ [⟨kindK ((s.drop n).take m), (s.drop n).take m, n⟩]) (n + m)) ∧
    (kindE ((s.drop n).take m) ≠ 0 → tok 0 s = ([], n, kindE ((s.drop n).take m))) := by
  have hb0 : run blk (s.drop n) = 0 := by
    rw [drop_cons hlt]
    unfold run
    rw [List.takeWhile_cons, hb]; rfl
  have hr : rst (s.drop n) = s.drop n := by unfold rst; rw [hb0, List.drop_zero]
  have hw : wln (s.drop n) = m := by unfold wln; rw [hr, hm]
  have ht : wtx (s.drop n) = (s.drop n).take m := by unfold wtx; rw [hr, hw]
  have h0 : ¬ ((s.drop n).length = 0 ∨ (s.drop n).getD 0 0 = 35) := by
    rw [drop_cons hlt]
    rintro (h | h)
    · simp at h
    · exact hc h
  have e := tok_eq n (s.drop n)
  rw [hr, hw, ht, hb0, Nat.add_zero, if_neg h0, List.drop_drop] at e
  have hml : n + m ≤ s.length := by
    have := run_le (fun c => !blk c) (s.drop n)
    rw [hm, List.length_drop] at this; omega
  constructor
  · intro hE
    refine ⟨hml, ?_⟩
    rw [if_neg (by omega)] at e
    rw [h.2, e]
    unfold pre
    by_cases hq : (tok (n + m) (s.drop (n + m))).2.2 = 0
    · simp [hq]
    · simp [hq]
  · intro hE
    rw [if_pos hE] at e
    rw [h.2, e]
    simp [hE, pre]
end Lx
