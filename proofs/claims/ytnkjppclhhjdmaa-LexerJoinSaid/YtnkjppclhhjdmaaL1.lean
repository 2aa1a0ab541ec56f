/-
  Plain mathematics of tokens: classes of bytes, kinds of texts, the tokens of a line.
-/
set_option linter.unusedVariables false
set_option linter.unusedSimpArgs false
set_option linter.unnecessarySimpa false
namespace Lx

def blk (c : Nat) : Bool := c == 32 || c == 9
def dg (c : Nat) : Bool := decide (48 ≤ c) && decide (c ≤ 57)
def nm (c : Nat) : Bool := (decide (65 ≤ c) && decide (c ≤ 90)) || dg c || c == 45
def lw (c : Nat) : Bool := decide (97 ≤ c) && decide (c ≤ 122)

/-- How many bytes at the start are of a class. -/
def run (p : Nat → Bool) (l : List Nat) : Nat := (l.takeWhile p).length
theorem run_le (p : Nat → Bool) (l : List Nat) : run p l ≤ l.length := by
  unfold run
  exact (List.takeWhile_prefix p).length_le
theorem run_of {p : Nat → Bool} {l : List Nat} {k : Nat} (hk : k ≤ l.length) (h : ∀ j, j < k → p (l.getD j 0) = true) (hn : k < l.length → p (l.getD k 0) = false) : run p l = k := by
  induction l generalizing k with
  | nil => simp at hk; subst hk; rfl
  | cons a l ih =>
    cases k with
    | zero =>
      have := hn (by simp)
      simp at this
      simp [run, this]
    | succ k =>
      have h0 := h 0 (by omega)
      simp at h0
      have := ih (k := k) (by simpa using hk) (fun j hj => by simpa using h (j + 1) (by omega)) (fun hlt => by simpa using hn (by simpa using hlt))
      simp only [run, List.takeWhile_cons, h0, if_true, List.length_cons]
      show run p l + 1 = k + 1
      rw [this]
theorem run_all {p : Nat → Bool} {l : List Nat} : (run p l = l.length) ↔ l.all p = true := by
  induction l with
  | nil => simp [run]
  | cons a l ih =>
    by_cases h : p a = true
    · have : run p (a :: l) = run p l + 1 := by simp [run, h]
      rw [this]; simp [h]
      constructor
      · intro e; have := ih.1 (by omega); simpa using this
      · intro e; have := ih.2 (by simpa using e); omega
    · have : run p (a :: l) = 0 := by simp [run, h]
      rw [this]; simp [h]

def whole (l : List Nat) : Bool := l.all dg && (l.length == 1 || (decide (1 < l.length) && l.getD 0 0 != 48))
def dateB (l : List Nat) : Bool := l.length == 10 && (List.range 10).all fun i => if i = 4 ∨ i = 7 then l.getD i 0 == 45 else dg (l.getD i 0)
def strip (l : List Nat) : List Nat := if decide (0 < l.length) && l.getD 0 0 == 45 then l.drop 1 else l
def dec2 (l : List Nat) : Bool := decide (4 ≤ l.length) && l.getD (l.length - 3) 0 == 46 && dg (l.getD (l.length - 1) 0) && dg (l.getD (l.length - 2) 0) && whole (l.take (l.length - 3))
def decB (l : List Nat) : Bool := l != [45, 48, 46, 48, 48] && dec2 (strip l)
def nameB (l : List Nat) : Bool := l.all nm && decide (0 < l.length)
def wordB (l : List Nat) : Bool := l.all lw && decide (0 < l.length)

/-- The kind of a text, and the error. -/
def kindK (l : List Nat) : Nat := if 32 < l.length then 0 else if dateB l then 4 else if whole l && decide (l.length ≤ 16) then 2 else if decB l then 3 else if nameB l then 1 else 0
def kindE (l : List Nat) : Nat := if 32 < l.length then 5 else if dateB l then 0 else if whole l && decide (l.length ≤ 16) then 0 else if decB l then 0 else if nameB l then 0 else if wordB l then 0 else 30

structure Tk where
  kind : Nat
  text : List Nat
  pos : Nat
deriving DecidableEq

def rst (l : List Nat) : List Nat := l.drop (run blk l)
def wln (l : List Nat) : Nat := run (fun c => !blk c) (rst l)
def wtx (l : List Nat) : List Nat := (rst l).take (wln l)
/-- The tokens behind position n of a line whose rest is l: the tokens, the offset of an error, the error. -/
def toks : Nat → Nat → List Nat → List Tk × Nat × Nat
  | 0, _, _ => ([], 0, 0)
  | f + 1, n, l =>
    if (rst l).length = 0 ∨ (rst l).getD 0 0 = 35 then ([], 0, 0)
    else if kindE (wtx l) ≠ 0 then ([], n + run blk l, kindE (wtx l))
    else if (toks f (n + run blk l + wln l) ((rst l).drop (wln l))).2.2 ≠ 0 then ([], (toks f (n + run blk l + wln l) ((rst l).drop (wln l))).2.1, (toks f (n + run blk l + wln l) ((rst l).drop (wln l))).2.2)
    else (⟨kindK (wtx l), wtx l, n + run blk l⟩ :: (toks f (n + run blk l + wln l) ((rst l).drop (wln l))).1, 0, 0)
end Lx
