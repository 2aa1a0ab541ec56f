/-
  Plain mathematics of tokens: a line that is laid out of blanks and texts.
-/
import Derived.Test.YtnkjppclhhjdmaaLK
set_option linter.unusedVariables false
set_option linter.unusedSimpArgs false
set_option linter.unnecessarySimpa false
namespace Lx

/-- No blank, no comment. -/
def gd (c : Nat) : Bool := !blk c && c != 35
theorem gd_dg {c : Nat} (h : dg c = true) : gd c = true := by simp [dg] at h; simp [gd, blk]; omega
theorem gd_nm {c : Nat} (h : nm c = true) : gd c = true := by simp [nm, dg] at h; simp [gd, blk]; omega
theorem gd_lw {c : Nat} (h : lw c = true) : gd c = true := by simp [lw] at h; simp [gd, blk]; omega
theorem all_of_getD {p : Nat → Bool} {l : List Nat} (h : ∀ i, i < l.length → p (l.getD i 0) = true) : l.all p = true := by
  rw [List.all_eq_true]
  intro x hx
  obtain ⟨i, hi, rfl⟩ := List.getElem_of_mem hx
  have := h i hi
  rw [List.getD_eq_getElem?_getD, List.getElem?_eq_getElem hi] at this
  exact this
theorem all_mono {p q : Nat → Bool} {l : List Nat} (hpq : ∀ c, p c = true → q c = true) (h : l.all p = true) : l.all q = true := by
  rw [List.all_eq_true] at h ⊢
  exact fun x hx => hpq x (h x hx)
theorem dec_ok {m : List Nat} (h : dec2 m = true) : m.all gd = true ∧ 0 < m.length := by
  simp only [dec2, Bool.and_eq_true, decide_eq_true_eq, beq_iff_eq, whole] at h
  obtain ⟨⟨⟨⟨h1, h2⟩, h3⟩, h4⟩, h5, _⟩ := h
  refine ⟨all_of_getD fun i hi => ?_, by omega⟩
  by_cases hi3 : i < m.length - 3
  · have := all_getD h5 (k := i) (by rw [List.length_take]; omega)
    rw [List.getD_eq_getElem?_getD, List.getElem?_take, if_pos hi3, ← List.getD_eq_getElem?_getD] at this
    exact gd_dg this
  · rcases (by omega : i = m.length - 3 ∨ i = m.length - 2 ∨ i = m.length - 1) with rfl | rfl | rfl
    · rw [h2]; rfl
    · exact gd_dg h4
    · exact gd_dg h3
theorem kind_gd {T : List Nat} (h : kindE T = 0) : T.all gd = true ∧ 0 < T.length := by
  unfold kindE at h
  split at h
  · cases h
  · split at h
    · rename_i hd
      simp only [dateB, Bool.and_eq_true, beq_iff_eq, List.all_eq_true, List.mem_range] at hd
      obtain ⟨hl, hd⟩ := hd
      refine ⟨all_of_getD fun i hi => ?_, by omega⟩
      have := hd i (by omega)
      split at this
      · rw [beq_iff_eq] at this; rw [this]; rfl
      · exact gd_dg this
    · split at h
      · rename_i hd
        simp only [whole, Bool.and_eq_true, Bool.or_eq_true, beq_iff_eq, decide_eq_true_eq] at hd
        exact ⟨all_mono (fun c => gd_dg) hd.1.1, by omega⟩
      · split at h
        · rename_i hd
          simp only [decB, Bool.and_eq_true] at hd
          obtain ⟨_, hd⟩ := hd
          unfold strip at hd
          split at hd
          · rename_i hs
            simp only [Bool.and_eq_true, decide_eq_true_eq, beq_iff_eq] at hs
            obtain ⟨h1, h2⟩ := dec_ok hd
            cases T with
            | nil => simp at hs
            | cons a T =>
              have ha : a = 45 := by simpa using hs.2
              subst ha
              refine ⟨?_, by simp⟩
              rw [List.all_cons]
              simp only [List.drop_succ_cons, List.drop_zero] at h1
              rw [h1]; rfl
          · exact dec_ok hd
        · split at h
          · rename_i hd
            simp only [nameB, Bool.and_eq_true, decide_eq_true_eq] at hd
            exact ⟨all_mono (fun c => gd_nm) hd.1, hd.2⟩
          · split at h
            · rename_i hd
              simp only [wordB, Bool.and_eq_true, decide_eq_true_eq] at hd
              exact ⟨all_mono (fun c => gd_lw) hd.1, hd.2⟩
            · cases h
theorem kind_ok {T : List Nat} (h : kindE T = 0) : ∃ a T', T = a :: T' ∧ (a :: T').all (fun c => !blk c) = true ∧ a ≠ 35 := by
  obtain ⟨h1, h2⟩ := kind_gd h
  cases T with
  | nil => simp at h2
  | cons a T =>
    refine ⟨a, T, rfl, all_mono (fun c hc => ?_) h1, ?_⟩
    · simp only [gd, Bool.and_eq_true] at hc; exact hc.1
    · rw [List.all_cons] at h1
      simp only [gd, Bool.and_eq_true, bne_iff_ne] at h1
      exact h1.1.2

/-- Blanks and texts, one behind the other. -/
def flat (Q : List (List Nat × List Nat)) : List Nat := Q.flatMap fun q => q.1 ++ q.2
theorem flat_snoc (Q : List (List Nat × List Nat)) (B T : List Nat) : flat (Q ++ [(B, T)]) = flat Q ++ (B ++ T) := by
  unfold flat; rw [List.flatMap_append]; simp
theorem flat_cons (q : List Nat × List Nat) (Q : List (List Nat × List Nat)) : flat (q :: Q) = q.1 ++ q.2 ++ flat Q := by
  unfold flat; rw [List.flatMap_cons]
/-- A laid line has just these tokens. -/
theorem tok_flat {X : List Nat} (hX : X = [] ∨ ∃ b Y, X = b :: Y ∧ blk b = true) (hT : ∀ n, tok n X = ([], 0, 0)) : ∀ (Q : List (List Nat × List Nat)) (n : Nat), (∀ q ∈ Q, q.1.all blk = true ∧ kindE q.2 = 0) → (∀ (j : Nat) q, Q[j]? = some q → 0 < j → q.1 ≠ []) →
    ∃ M, tok n (flat Q ++ X) = (M, 0, 0) ∧ M.map (fun t => (t.kind, t.text)) = Q.map (fun q => (kindK q.2, q.2)) ∧ ∀ t ∈ M, t.pos ≤ n + (flat Q).length
  | [], n, _, _ => ⟨[], by rw [show flat [] = [] from rfl, List.nil_append]; exact hT n, rfl, by simp⟩
  | q :: Q, n, h, hj => by
    obtain ⟨hB, hk⟩ := h q (List.mem_cons_self ..)
    obtain ⟨a, T, hq, hT', ha⟩ := kind_ok hk
    have hs : stops (flat Q ++ X) := by
      cases Q with
      | nil => exact hX
      | cons q' Q =>
        have h1 := hj 1 q' rfl (by decide)
        have h2 := (h q' (by simp)).1
        cases hq' : q'.1 with
        | nil => exact absurd hq' h1
        | cons b B =>
          rw [hq', List.all_cons, Bool.and_eq_true] at h2
          exact .inr ⟨b, B ++ q'.2 ++ flat Q ++ X, by rw [flat_cons, hq']; simp, h2.1⟩
    obtain ⟨M, hM, hm, hp⟩ := tok_flat hX hT Q (n + q.1.length + (a :: T).length) (fun q hq => h q (List.mem_cons_of_mem _ hq)) (fun j q hj' h0 => hj (j + 1) q (by simpa using hj') (by omega))
    refine ⟨⟨kindK (a :: T), a :: T, n + q.1.length⟩ :: M, ?_, ?_, ?_⟩
    · rw [flat_cons, hq, List.append_assoc _ (flat Q) X, tok_word hB hT' ha hs, if_neg (by rw [← hq]; simpa using hk), hM]
      simp
    · simp [hm, hq]
    · intro t ht
      rw [flat_cons, hq, List.length_append, List.length_append]
      rcases List.mem_cons.1 ht with rfl | ht
      · simp; omega
      · have := hp t ht; simp at this ⊢; omega

/-- What texts take. -/
def sumT (L : List Tk) : Nat := (L.map fun t => t.text.length).sum
theorem sumT_cons (t : Tk) (L : List Tk) : sumT (t :: L) = t.text.length + sumT L := by simp [sumT]
theorem gap_sum : ∀ (L : List Tk) (n : Nat) (l : List Nat), Gap n l L → stops l → sumT L + L.length ≤ l.length
  | [], n, l, _, _ => by simp [sumT]
  | t :: L, n, l, h, hs => by
    obtain ⟨B, X, e, hB, hX, hp, h0, hE, hK, hT, hG⟩ := h
    have ih := gap_sum L _ _ hG hX
    have hb : 0 < B.length := by
      rcases Nat.eq_zero_or_pos B.length with hb | hb
      · have := List.length_eq_zero_iff.1 hb
        subst this
        obtain ⟨a, T, ht, hT', _⟩ := kind_ok hE
        rw [ht] at e
        rcases hs with hs | ⟨b, Y, hs, hbl⟩
        · rw [hs] at e; simp at e
        · rw [hs] at e
          simp at e
          rw [List.all_cons, ← e.1, hbl] at hT'
          cases hT'
      · exact hb
    rw [sumT_cons, e]
    simp; omega
theorem gap_sum1 : ∀ (L : List Tk) (n : Nat) (l : List Nat), Gap n l L → sumT L + L.length ≤ l.length + 1
  | [], n, l, _ => by simp [sumT]
  | t :: L, n, l, h => by
    obtain ⟨B, X, e, hB, hX, hp, h0, hE, hK, hT, hG⟩ := h
    have ih := gap_sum L _ _ hG hX
    rw [sumT_cons, e]
    simp; omega
theorem gap_kinds : ∀ (L : List Tk) (n : Nat) (l : List Nat), Gap n l L → ∀ t ∈ L, kindE t.text = 0 ∧ t.kind = kindK t.text
  | [], n, l, _, t, ht => by cases ht
  | t :: L, n, l, h, u, hu => by
    obtain ⟨B, X, e, hB, hX, hp, h0, hE, hK, hT, hG⟩ := h
    rcases List.mem_cons.1 hu with rfl | hu
    · exact ⟨hE, hK⟩
    · exact gap_kinds L _ _ hG u hu
theorem sumT_take_succ {L : List Tk} {i : Nat} (h : i < L.length) : sumT (L.take (i + 1)) = sumT (L.take i) + (L.getD i ⟨0, [], 0⟩).text.length := by
  rw [List.take_succ_eq_append_getElem h, List.getD_eq_getElem?_getD, List.getElem?_eq_getElem h]
  unfold sumT
  rw [List.map_append, List.sum_append]
  rfl
theorem sumT_take_le (L : List Tk) (i : Nat) : sumT (L.take i) ≤ sumT L := by
  have h : L = L.take i ++ L.drop i := (List.take_append_drop i L).symm
  have e : sumT L = sumT (L.take i) + sumT (L.drop i) := by
    conv => lhs; rw [h]
    unfold sumT
    rw [List.map_append, List.sum_append]
  omega

/-- How many of the first k are below i, and equal to i. -/
def cLt (f : Nat → Nat) (i k : Nat) : Nat := (List.range k).countP fun j => decide (f j < i)
def cEq (f : Nat → Nat) (i k : Nat) : Nat := (List.range k).countP fun j => decide (f j = i)
theorem cEq_succ (f : Nat → Nat) (i k : Nat) : cEq f i (k + 1) = cEq f i k + (if f k = i then 1 else 0) := by
  unfold cEq; rw [List.range_succ, List.countP_append]; simp [List.countP_cons]
theorem cLt_succ (f : Nat → Nat) (i k : Nat) : cLt f i (k + 1) = cLt f i k + (if f k < i then 1 else 0) := by
  unfold cLt; rw [List.range_succ, List.countP_append]; simp [List.countP_cons]
theorem cLt_step (f : Nat → Nat) (i : Nat) : ∀ k, cLt f (i + 1) k = cLt f i k + cEq f i k
  | 0 => rfl
  | k + 1 => by
    rw [cLt_succ, cLt_succ, cEq_succ, cLt_step f i k]
    split <;> split <;> split <;> omega
theorem cLt_le (f : Nat → Nat) (i k : Nat) : cLt f i k ≤ k := by
  unfold cLt
  have := List.countP_le_length (p := fun j => decide (f j < i)) (l := List.range k)
  rwa [List.length_range] at this
theorem cEq_le (f : Nat → Nat) (i k : Nat) : cEq f i k ≤ k := by
  unfold cEq
  have := List.countP_le_length (p := fun j => decide (f j = i)) (l := List.range k)
  rwa [List.length_range] at this

/-- What has been laid of the first i tokens. -/
def Lay (L : List Tk) (i : Nat) (S : List Nat) : Prop :=
  ∃ Q : List (List Nat × List Nat), S = flat Q ∧ Q.map (fun q => q.2) = (L.take i).map (fun t => t.text) ∧ (∀ q ∈ Q, q.1.all blk = true) ∧ ∀ (j : Nat) q, Q[j]? = some q → 0 < j → q.1 ≠ []
theorem Lay.nil (L : List Tk) : Lay L 0 [] := ⟨[], rfl, rfl, by simp, by simp⟩
theorem Lay.step {L : List Tk} {i : Nat} {S B : List Nat} (h : Lay L i S) (hi : i < L.length) (hB : B.all blk = true) (h0 : 0 < i → B ≠ []) : Lay L (i + 1) (S ++ (B ++ (L.getD i ⟨0, [], 0⟩).text)) := by
  obtain ⟨Q, h1, h2, h3, h4⟩ := h
  have hl : Q.length = i := by
    have := congrArg List.length h2
    simp at this; omega
  refine ⟨Q ++ [(B, (L.getD i ⟨0, [], 0⟩).text)], by rw [flat_snoc, h1], ?_, ?_, ?_⟩
  · rw [List.map_append, h2, List.take_succ_eq_append_getElem hi, List.getD_eq_getElem?_getD, List.getElem?_eq_getElem hi, List.map_append]
    rfl
  · intro q hq
    rcases List.mem_append.1 hq with hq | hq
    · exact h3 q hq
    · obtain rfl := List.mem_singleton.1 hq; exact hB
  · intro j q hq hj
    by_cases hjl : j < Q.length
    · rw [List.getElem?_append_left hjl] at hq
      exact h4 j q hq hj
    · rw [List.getElem?_append_right (by omega)] at hq
      cases hjk : j - Q.length with
      | zero =>
        rw [hjk] at hq
        obtain rfl := Option.some.inj hq
        exact h0 (by omega)
      | succ k => rw [hjk] at hq; simp at hq
theorem Lay.tok {L : List Tk} {S X : List Nat} (h : Lay L L.length S) (hk : ∀ t ∈ L, kindE t.text = 0 ∧ t.kind = kindK t.text) (hX : X = [] ∨ ∃ b Y, X = b :: Y ∧ blk b = true) (hT : ∀ n, tok n X = ([], 0, 0)) :
    ∃ M, Lx.tok 0 (S ++ X) = (M, 0, 0) ∧ M.map (fun t => (t.kind, t.text)) = L.map (fun t => (t.kind, t.text)) := by
  obtain ⟨Q, h1, h2, h3, h4⟩ := h
  rw [List.take_length] at h2
  obtain ⟨M, hM, hm, _⟩ := tok_flat hX hT Q 0 (fun q hq => ⟨h3 q hq, by
    have : q.2 ∈ Q.map (fun q => q.2) := List.mem_map_of_mem hq
    rw [h2] at this
    obtain ⟨t, ht, e⟩ := List.mem_map.1 this
    rw [← e]; exact (hk t ht).1⟩) h4
  refine ⟨M, by rw [h1]; exact hM, ?_⟩
  rw [hm]
  have e1 : Q.map (fun q => (kindK q.2, q.2)) = (Q.map (fun q => q.2)).map (fun T => (kindK T, T)) := by rw [List.map_map]; rfl
  rw [e1, h2, List.map_map]
  apply List.map_congr_left
  intro t ht
  show (kindK t.text, t.text) = (t.kind, t.text)
  rw [(hk t ht).2]
theorem tail_ok (c : List Nat) : ((32 :: 35 :: c : List Nat) = [] ∨ ∃ b Y, (32 :: 35 :: c : List Nat) = b :: Y ∧ blk b = true) ∧ ∀ n, tok n (32 :: 35 :: c) = ([], 0, 0) :=
  ⟨.inr ⟨32, _, rfl, rfl⟩, fun n => tok_tail (B := [32]) rfl (.inr ⟨c, rfl⟩)⟩
end Lx
