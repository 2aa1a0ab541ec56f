/-
  Plain mathematics of tokens: a line cut at its first token, the gaps between tokens, the first error.
-/
import Derived.Test.YtnkjppclhhjdmaaL2
set_option linter.unusedVariables false
set_option linter.unusedSimpArgs false
set_option linter.unnecessarySimpa false
namespace Lx

/-- Empty, or a blank ahead. -/
def stops (X : List Nat) : Prop := X = [] ∨ ∃ b Y, X = b :: Y ∧ blk b = true
theorem run_stops {p : Nat → Bool} {B X : List Nat} (hB : B.all p = true) (hX : X = [] ∨ ∃ b Y, X = b :: Y ∧ p b = false) : run p (B ++ X) = B.length := by
  induction B with
  | nil =>
    rcases hX with rfl | ⟨b, Y, rfl, hb⟩
    · rfl
    · simp [run, hb]
  | cons a B ih =>
    simp at hB
    rw [List.cons_append, run_cons hB.1, ih (by simpa using hB.2)]; rfl
theorem tok_word {n a : Nat} {B T X : List Nat} (hB : B.all blk = true) (hT : (a :: T).all (fun c => !blk c) = true) (ha : a ≠ 35) (hX : stops X) :
    tok n (B ++ (a :: T) ++ X) =
    if kindE (a :: T) ≠ 0 then ([], n + B.length, kindE (a :: T))
    else if (tok (n + B.length + (a :: T).length) X).2.2 ≠ 0 then ([], (tok (n + B.length + (a :: T).length) X).2.1, (tok (n + B.length + (a :: T).length) X).2.2)
    else (⟨kindK (a :: T), a :: T, n + B.length⟩ :: (tok (n + B.length + (a :: T).length) X).1, 0, 0) := by
  have e1 : run blk (B ++ (a :: T) ++ X) = B.length := by
    rw [List.append_assoc]
    refine run_stops hB (.inr ⟨a, T ++ X, rfl, ?_⟩)
    simp at hT; exact hT.1
  have e2 : rst (B ++ (a :: T) ++ X) = (a :: T) ++ X := by
    unfold rst; rw [e1, List.append_assoc, List.drop_left]
  have e3 : wln (B ++ (a :: T) ++ X) = (a :: T).length := by
    unfold wln; rw [e2]
    refine run_stops hT ?_
    rcases hX with h | ⟨b, Y, h, hb⟩
    · exact .inl h
    · exact .inr ⟨b, Y, h, by rw [hb]; rfl⟩
  have e4 : wtx (B ++ (a :: T) ++ X) = a :: T := by
    unfold wtx; rw [e2, e3, List.take_left]
  have e5 : ¬ (((a :: T) ++ X).length = 0 ∨ ((a :: T) ++ X).getD 0 0 = 35) := by
    rintro (h | h)
    · simp at h
    · simp at h; exact ha h
  rw [tok_eq, e2, e1, e3, e4, if_neg e5, List.drop_left]
theorem tok_tail {n : Nat} {B X : List Nat} (hB : B.all blk = true) (hX : X = [] ∨ ∃ Y, X = 35 :: Y) : tok n (B ++ X) = ([], 0, 0) := by
  have e1 : run blk (B ++ X) = B.length := by
    refine run_stops hB ?_
    rcases hX with h | ⟨Y, h⟩
    · exact .inl h
    · exact .inr ⟨35, Y, h, rfl⟩
  have e2 : rst (B ++ X) = X := by unfold rst; rw [e1, List.drop_left]
  rw [tok_eq, e2, if_pos]
  rcases hX with h | ⟨Y, h⟩
  · left; rw [h]; rfl
  · right; rw [h]; rfl
theorem all_take (p : Nat → Bool) (l : List Nat) : (l.takeWhile p).all p = true := by
  induction l with
  | nil => rfl
  | cons a l ih =>
    by_cases h : p a = true
    · simp [List.takeWhile_cons, h]
    · simp [List.takeWhile_cons, h]
theorem drop_stops (p : Nat → Bool) (l : List Nat) : l.dropWhile p = [] ∨ ∃ b Y, l.dropWhile p = b :: Y ∧ p b = false := by
  induction l with
  | nil => exact .inl rfl
  | cons a l ih =>
    by_cases h : p a = true
    · rw [List.dropWhile_cons_of_pos h]; exact ih
    · rw [List.dropWhile_cons_of_neg h]; exact .inr ⟨a, l, rfl, by simpa using h⟩
/-- A line cut at its first token. -/
theorem cut (l : List Nat) : (∃ B X, l = B ++ X ∧ B.all blk = true ∧ (X = [] ∨ ∃ Y, X = 35 :: Y)) ∨
    (∃ B a T X, l = B ++ (a :: T) ++ X ∧ B.all blk = true ∧ (a :: T).all (fun c => !blk c) = true ∧ a ≠ 35 ∧ stops X) := by
  have h1 : l = l.takeWhile blk ++ l.dropWhile blk := List.takeWhile_append_dropWhile.symm
  rcases drop_stops blk l with h | ⟨b, Y, h, hb⟩
  · exact .inl ⟨_, [], by rw [List.append_nil]; rw [h, List.append_nil] at h1; exact h1, all_take _ _, .inl rfl⟩
  · by_cases hc : b = 35
    · subst hc
      exact .inl ⟨_, _, h1, all_take _ _, .inr ⟨Y, h⟩⟩
    · refine .inr ⟨l.takeWhile blk, b, Y.takeWhile (fun c => !blk c), Y.dropWhile (fun c => !blk c), ?_, all_take _ _, ?_, hc, ?_⟩
      · conv => lhs; rw [h1, h]
        rw [List.append_assoc, List.cons_append, List.takeWhile_append_dropWhile]
      · have := all_take (fun c => !blk c) Y
        rw [List.all_cons, this, hb]; rfl
      · rcases drop_stops (fun c => !blk c) Y with h | ⟨b, Z, h, hb⟩
        · exact .inl h
        · exact .inr ⟨b, Z, h, by simpa using hb⟩
/-- Induction over the tokens of a line. -/
theorem cutRec {P : List Nat → Prop} (h0 : ∀ B X, B.all blk = true → (X = [] ∨ ∃ Y, X = 35 :: Y) → P (B ++ X))
    (h1 : ∀ B a T X, B.all blk = true → (a :: T).all (fun c => !blk c) = true → a ≠ 35 → stops X → P X → P (B ++ (a :: T) ++ X)) : ∀ (k : Nat) (l : List Nat), l.length ≤ k → P l := by
  intro k
  induction k with
  | zero =>
    intro l hl
    have : l = [] := by cases l with | nil => rfl | cons a l => simp at hl
    subst this
    exact h0 [] [] rfl (.inl rfl)
  | succ k ih =>
    intro l hl
    rcases cut l with ⟨B, X, rfl, hB, hX⟩ | ⟨B, a, T, X, rfl, hB, hT, ha, hX⟩
    · exact h0 B X hB hX
    · refine h1 B a T X hB hT ha hX (ih X ?_)
      simp at hl; omega

/-- What stands between the tokens of l, from place n on. -/
def Gap : Nat → List Nat → List Tk → Prop
  | n, l, [] => ∃ B X, l = B ++ X ∧ B.all blk = true ∧ (X = [] ∨ ∃ Y, X = 35 :: Y)
  | n, l, t :: L => ∃ B X, l = B ++ t.text ++ X ∧ B.all blk = true ∧ stops X ∧ t.pos = n + B.length ∧ 0 < t.text.length ∧ kindE t.text = 0 ∧ t.kind = kindK t.text ∧ t.text.all (fun c => !blk c) = true ∧ Gap (n + B.length + t.text.length) X L
theorem gap_of (l : List Nat) : ∀ n, (tok n l).2.2 = 0 → Gap n l (tok n l).1 := by
  refine cutRec (P := fun l => ∀ n, (tok n l).2.2 = 0 → Gap n l (tok n l).1) ?_ ?_ l.length l (Nat.le_refl _)
  · intro B X hB hX n _
    rw [tok_tail hB hX]
    exact ⟨B, X, rfl, hB, hX⟩
  · intro B a T X hB hT ha hX ih n
    rw [tok_word hB hT ha hX]
    split
    · intro h; simp at h; rename_i h2; exact absurd h h2
    · split
      · intro h; simp at h; rename_i h2; exact absurd h h2
      · intro _
        rename_i h1 h2 _
        refine ⟨B, X, rfl, hB, hX, rfl, by simp, ?_, rfl, hT, ih _ ?_⟩
        · simpa using h1
        · simpa using h2

/-- The first error of a line: what stands ahead of it has none, and it stays whatever follows. -/
theorem err_of (l : List Nat) : ∀ n, (tok n l).2.2 ≠ 0 → ∃ q, (tok n l).2.1 = n + q ∧ q < l.length ∧ (tok n (l.take q)).2.2 = 0 ∧ (q = 0 → stops l → False) ∧
    ∀ e, e = run (fun c => !blk c) (l.drop q) → ∀ tail, tok n (l.take (q + e) ++ 32 :: tail) = tok n l := by
  refine cutRec (P := fun l => ∀ n, (tok n l).2.2 ≠ 0 → ∃ q, (tok n l).2.1 = n + q ∧ q < l.length ∧ (tok n (l.take q)).2.2 = 0 ∧ (q = 0 → stops l → False) ∧
    ∀ e, e = run (fun c => !blk c) (l.drop q) → ∀ tail, tok n (l.take (q + e) ++ 32 :: tail) = tok n l) ?_ ?_ l.length l (Nat.le_refl _)
  · intro B X hB hX n
    rw [tok_tail hB hX]
    intro h; exact absurd rfl h
  · intro B a T X hB hT ha hX ih n hne
    have hst : ∀ tail : List Nat, stops (32 :: tail) := fun tail => .inr ⟨32, tail, rfl, rfl⟩
    by_cases hk : kindE (a :: T) ≠ 0
    · refine ⟨B.length, ?_, ?_, ?_, ?_, ?_⟩
      · rw [tok_word hB hT ha hX, if_pos hk]
      · simp
      · have e : (B ++ (a :: T) ++ X).take B.length = B ++ [] := by rw [List.append_assoc, List.take_left, List.append_nil]
        rw [e, tok_tail hB (.inl rfl)]
      · intro h0 hs
        have : B = [] := List.length_eq_zero_iff.1 h0
        subst this
        rcases hs with h | ⟨b, Y, h, hb⟩
        · simp at h
        · simp at h; rw [← h.1] at hb; simp at hT; rw [hT.1] at hb; cases hb
      · intro e he tail
        have e1 : (B ++ (a :: T) ++ X).drop B.length = (a :: T) ++ X := by rw [List.append_assoc, List.drop_left]
        have e2 : e = (a :: T).length := by
          rw [he, e1]
          refine run_stops hT ?_
          rcases hX with h | ⟨b, Y, h, hb⟩
          · exact .inl h
          · exact .inr ⟨b, Y, h, by rw [hb]; rfl⟩
        have e3 : (B ++ (a :: T) ++ X).take (B.length + e) = B ++ (a :: T) := by
          rw [e2, ← List.length_append, List.take_left]
        rw [e3, tok_word hB hT ha (hst tail), tok_word hB hT ha hX, if_pos hk, if_pos hk]
    · have hr : (tok (n + B.length + (a :: T).length) X).2.2 ≠ 0 := by
        intro h
        rw [tok_word hB hT ha hX, if_neg hk, if_neg (by simpa using h)] at hne
        exact hne rfl
      obtain ⟨q, h1, h2, h3, h4, h5⟩ := ih _ hr
      have hq : q ≠ 0 := fun h => h4 h hX
      refine ⟨B.length + (a :: T).length + q, ?_, ?_, ?_, ?_, ?_⟩
      · rw [tok_word hB hT ha hX, if_neg hk, if_pos hr]
        show (tok (n + B.length + (a :: T).length) X).2.1 = _
        rw [h1]; omega
      · rw [List.length_append, List.length_append]; omega
      · have e : (B ++ (a :: T) ++ X).take (B.length + (a :: T).length + q) = B ++ (a :: T) ++ X.take q := by
          rw [← List.length_append, List.take_length_add_append]
        have hs : stops (X.take q) := by
          rcases hX with h | ⟨b, Y, h, hb⟩
          · rw [h] at h2; simp at h2
          · rw [h]
            cases q with
            | zero => exact absurd rfl hq
            | succ q => exact .inr ⟨b, Y.take q, rfl, hb⟩
        rw [e, tok_word hB hT ha hs, if_neg hk, if_neg (by simpa using h3)]
      · intro h0; omega
      · intro e he tail
        have e1 : (B ++ (a :: T) ++ X).drop (B.length + (a :: T).length + q) = X.drop q := by
          rw [← List.length_append, List.drop_length_add_append]
        rw [e1] at he
        have e3 : (B ++ (a :: T) ++ X).take (B.length + (a :: T).length + q + e) = B ++ (a :: T) ++ X.take (q + e) := by
          rw [← List.length_append, Nat.add_assoc, List.take_length_add_append]
        have hs : stops (X.take (q + e) ++ 32 :: tail) := by
          rcases hX with h | ⟨b, Y, h, hb⟩
          · rw [h]; simp; exact hst tail
          · rw [h]
            cases hqe : q + e with
            | zero => omega
            | succ m => exact .inr ⟨b, Y.take m ++ 32 :: tail, rfl, hb⟩
        rw [e3, List.append_assoc, tok_word hB hT ha hs, tok_word hB hT ha hX, h5 e he tail]

theorem getD_app1 {B X : List Nat} {k : Nat} (h : k < B.length) : (B ++ X).getD k 0 = B.getD k 0 := by
  simp [List.getD_eq_getElem?_getD, List.getElem?_append_left h]
theorem getD_of_drop {s : List Nat} {n k : Nat} : (s.drop n).getD k 0 = s.getD (n + k) 0 := by
  simp [List.getD_eq_getElem?_getD, List.getElem?_drop]
theorem all_getD {p : Nat → Bool} {B : List Nat} (h : B.all p = true) {k : Nat} (hk : k < B.length) : p (B.getD k 0) = true := by
  rw [List.getD_eq_getElem?_getD, List.getElem?_eq_getElem hk]
  exact List.all_eq_true.1 h _ (List.getElem_mem hk)
theorem drop_app {s B X : List Nat} {n : Nat} (h : s.drop n = B ++ X) : s.drop (n + B.length) = X := by
  rw [← List.drop_drop, h, List.drop_left]
theorem gap_step {s : List Nat} {n : Nat} {t : Tk} {L : List Tk} (h : Gap n (s.drop n) (t :: L)) (hn : n ≤ s.length) :
    n ≤ t.pos ∧ (∀ k, n ≤ k → k < t.pos → blk (s.getD k 0) = true) ∧ t.text = (s.drop t.pos).take t.text.length ∧ 0 < t.text.length ∧ t.pos + t.text.length ≤ s.length ∧ Gap (t.pos + t.text.length) (s.drop (t.pos + t.text.length)) L ∧ kindE t.text = 0 ∧ t.kind = kindK t.text := by
  obtain ⟨B, X, e, hB, hX, hp, h0, hE, hK, hT, hG⟩ := h
  rw [List.append_assoc] at e
  have e1 : s.drop t.pos = t.text ++ X := by rw [hp]; exact drop_app e
  have e2 : s.drop (t.pos + t.text.length) = X := drop_app e1
  have el : (s.drop n).length = B.length + (t.text.length + X.length) := by rw [e, List.length_append, List.length_append]
  rw [List.length_drop] at el
  refine ⟨by omega, fun k hk hk2 => ?_, ?_, h0, by omega, ?_, hE, hK⟩
  · have := all_getD hB (k := k - n) (by omega)
    rw [← getD_app1 (X := t.text ++ X) (by omega), ← e, getD_of_drop, Nat.add_sub_cancel' hk] at this
    exact this
  · rw [e1, List.take_left]
  · rw [e2, hp]; exact hG
theorem gap_end {s : List Nat} {n : Nat} (h : Gap n (s.drop n) []) (hn : n ≤ s.length) : ∃ k, n ≤ k ∧ k ≤ s.length ∧ (∀ j, n ≤ j → j < k → blk (s.getD j 0) = true) ∧ (k < s.length → s.getD k 0 = 35) := by
  obtain ⟨B, X, e, hB, hX⟩ := h
  have el : (s.drop n).length = B.length + X.length := by rw [e, List.length_append]
  rw [List.length_drop] at el
  refine ⟨n + B.length, by omega, by omega, fun k hk hk2 => ?_, fun hlt => ?_⟩
  · have := all_getD hB (k := k - n) (by omega)
    rw [← getD_app1 (X := X) (by omega), ← e, getD_of_drop, Nat.add_sub_cancel' hk] at this
    exact this
  · rcases hX with rfl | ⟨Y, rfl⟩
    · simp at el; omega
    · rw [← Nat.add_zero (n + B.length), ← getD_of_drop, drop_app e]; rfl
end Lx
