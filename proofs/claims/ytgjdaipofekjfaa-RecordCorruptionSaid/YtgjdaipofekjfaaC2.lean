/-
  Plain mathematics of records: what Encode, Next and Scan answer as functions of lists of bytes.
-/
import Derived.Test.YtgjdaipofekjfaaC1
set_option linter.unusedVariables false
set_option linter.unusedSimpArgs false
set_option linter.unnecessarySimpa false
namespace Crc

def le4 (n : Nat) : List Nat := [n % 256, n / 256 % 256, n / 65536 % 256, n / 16777216 % 256]
def rd4 (l : List Nat) : Nat := l.getD 0 0 + 256 * l.getD 1 0 + 65536 * l.getD 2 0 + 16777216 * l.getD 3 0
def recd (p : List Nat) : List Nat := le4 p.length ++ (le4 (crc (le4 p.length ++ p)) ++ p)

theorem le4_len (n : Nat) : (le4 n).length = 4 := rfl
theorem recd_len (p : List Nat) : (recd p).length = 8 + p.length := by simp [recd, le4_len]; omega
theorem le4_bts (n : Nat) : Bts (le4 n) := by
  intro c hc
  simp [le4] at hc
  rcases hc with rfl | rfl | rfl | rfl <;> exact Nat.mod_lt _ (by decide)
theorem Bts.append {a b : List Nat} (ha : Bts a) (hb : Bts b) : Bts (a ++ b) := by
  intro c hc; rcases List.mem_append.1 hc with h | h
  · exact ha c h
  · exact hb c h
theorem Bts.take {a : List Nat} (ha : Bts a) (n : Nat) : Bts (a.take n) := fun c hc => ha c (List.mem_of_mem_take hc)
theorem Bts.drop {a : List Nat} (ha : Bts a) (n : Nat) : Bts (a.drop n) := fun c hc => ha c (List.mem_of_mem_drop hc)
theorem recd_bts {p : List Nat} (h : Bts p) : Bts (recd p) := (le4_bts _).append ((le4_bts _).append h)

theorem rd4_le4 (n : Nat) (h : n < 4294967296) (l : List Nat) : rd4 (le4 n ++ l) = n := by
  simp [rd4, le4]; omega
theorem rd4_lt {l : List Nat} (h : Bts l) : rd4 l < 4294967296 := by
  have g : ∀ i, l.getD i 0 < 256 := by
    intro i
    rw [List.getD_eq_getElem?_getD]
    by_cases hi : i < l.length
    · rw [List.getElem?_eq_getElem hi]; exact h _ (List.getElem_mem hi)
    · rw [List.getElem?_eq_none (by omega)]; decide
  have := g 0; have := g 1; have := g 2; have := g 3
  unfold rd4; omega
theorem getD_take {l : List Nat} {n i : Nat} (h : i < n) : (l.take n).getD i 0 = l.getD i 0 := by
  simp [List.getD_eq_getElem?_getD, h]
theorem rd4_take {l : List Nat} {n : Nat} (h : 4 ≤ n) : rd4 (l.take n) = rd4 l := by
  unfold rd4; rw [getD_take (by omega), getD_take (by omega), getD_take (by omega), getD_take (by omega)]
/-- Four bytes are their number. -/
theorem le4_rd4 {l : List Nat} (h : Bts l) (hl : 4 ≤ l.length) : le4 (rd4 l) = l.take 4 := by
  match l, hl with
  | a :: b :: c :: d :: t, _ =>
    have ha : a < 256 := h a (by simp)
    have hb : b < 256 := h b (by simp)
    have hc : c < 256 := h c (by simp)
    have hd : d < 256 := h d (by simp)
    simp [le4, rd4]; omega

def nxtE (b : List Nat) : Nat :=
  if b.length < 8 then 19 else if 1048576 < rd4 b then 2 else if b.length < 8 + rd4 b then 19
  else if crc (b.take 4 ++ (b.drop 8).take (rd4 b)) = rd4 (b.drop 4) then 0 else 18
def nxtN (b : List Nat) : Nat := if nxtE b = 0 then 8 + rd4 b else 0
def nxtP (b : List Nat) : List Nat := if nxtE b = 0 then (b.drop 8).take (rd4 b) else []

theorem nxt_ok {b : List Nat} (h : nxtE b = 0) : 8 + rd4 b ≤ b.length ∧ rd4 b ≤ 1048576 ∧ nxtN b = 8 + rd4 b ∧ (nxtP b).length = rd4 b ∧ nxtP b = (b.drop 8).take (rd4 b) := by
  have h' := h
  unfold nxtE at h
  split at h; · cases h
  split at h; · cases h
  split at h; · cases h
  have e : nxtP b = (b.drop 8).take (rd4 b) := by unfold nxtP; rw [if_pos h']
  refine ⟨by omega, by omega, by unfold nxtN; rw [if_pos h'], ?_, e⟩
  rw [e, List.length_take, List.length_drop]; omega
theorem nxt_bad {b : List Nat} (h : nxtE b ≠ 0) : nxtN b = 0 ∧ nxtP b = [] := by
  constructor
  · unfold nxtN; rw [if_neg h]
  · unfold nxtP; rw [if_neg h]

def scanF : Nat → List Nat → List (List Nat) × Nat × Nat
  | 0, _ => ([], 0, 0)
  | k + 1, b => if b.length = 0 then ([], 0, 0) else if nxtE b = 0 then
      (nxtP b :: (scanF k (b.drop (nxtN b))).1, nxtN b + (scanF k (b.drop (nxtN b))).2.1, (scanF k (b.drop (nxtN b))).2.2)
    else ([], 0, nxtE b)

theorem scanF_more : ∀ (k : Nat) (b : List Nat), b.length ≤ k → scanF (k + 1) b = scanF k b
  | 0, b, h => by
    have : b = [] := List.length_eq_zero_iff.1 (by omega)
    subst this; rfl
  | k + 1, b, h => by
    rw [scanF]
    conv => rhs; rw [scanF]
    by_cases h0 : b.length = 0
    · simp [h0]
    · rw [if_neg h0, if_neg h0]
      by_cases hE : nxtE b = 0
      · rw [if_pos hE, if_pos hE]
        have hn := (nxt_ok hE).2.2.1
        have hd : (b.drop (nxtN b)).length ≤ k := by rw [List.length_drop, hn]; omega
        rw [scanF_more k _ hd]
      · rw [if_neg hE, if_neg hE]

theorem scanF_any (k : Nat) (b : List Nat) (h : b.length ≤ k) : scanF k b = scanF b.length b := by
  induction k with
  | zero => have : b.length = 0 := by omega
            rw [this]
  | succ k ih =>
    by_cases e : b.length = k + 1
    · rw [e]
    · rw [scanF_more k b (by omega), ih (by omega)]

def scan (b : List Nat) : List (List Nat) × Nat × Nat := scanF b.length b

theorem scan_nil : scan [] = ([], 0, 0) := rfl
theorem scan_ok {b : List Nat} (h0 : b.length ≠ 0) (hE : nxtE b = 0) :
    scan b = (nxtP b :: (scan (b.drop (nxtN b))).1, nxtN b + (scan (b.drop (nxtN b))).2.1, (scan (b.drop (nxtN b))).2.2) := by
  unfold scan
  have hn := (nxt_ok hE).2.2.1
  have hl : b.length = (b.length - 1) + 1 := by omega
  conv => lhs; rw [hl]
  rw [scanF, if_neg h0, if_pos hE, scanF_any (b.length - 1) _ (by rw [List.length_drop, hn]; omega)]
theorem scan_bad {b : List Nat} (h0 : b.length ≠ 0) (hE : nxtE b ≠ 0) : scan b = ([], 0, nxtE b) := by
  unfold scan
  have hl : b.length = (b.length - 1) + 1 := by omega
  rw [hl, scanF, if_neg h0, if_neg hE]

/-- What has been scanned, and what is left. -/
def Mid (b : List Nat) (L : List (List Nat)) (at' : Nat) : Prop :=
  at' ≤ b.length ∧ scan b = (L ++ (scan (b.drop at')).1, at' + (scan (b.drop at')).2.1, (scan (b.drop at')).2.2)
theorem mid_start (b : List Nat) : Mid b [] 0 := by
  refine ⟨Nat.zero_le _, ?_⟩
  simp
theorem mid_step {b : List Nat} {L : List (List Nat)} {at' : Nat} (h : Mid b L at') (hlt : at' < b.length) (hE : nxtE (b.drop at') = 0) :
    Mid b (L ++ [nxtP (b.drop at')]) (at' + nxtN (b.drop at')) := by
  have hk := nxt_ok hE
  have hl : (b.drop at').length = b.length - at' := List.length_drop ..
  refine ⟨by rw [hk.2.2.1]; omega, ?_⟩
  rw [h.2, scan_ok (by omega) hE, List.drop_drop, List.append_assoc, Nat.add_assoc]
  rfl
theorem mid_end {b : List Nat} {L : List (List Nat)} {at' : Nat} (h : Mid b L at') (hge : ¬ at' < b.length) : scan b = (L, at', 0) ∧ at' = b.length := by
  have e : at' = b.length := by have := h.1; omega
  refine ⟨?_, e⟩
  rw [h.2, e, List.drop_length, scan_nil]; simp
theorem mid_bad {b : List Nat} {L : List (List Nat)} {at' : Nat} (h : Mid b L at') (hlt : at' < b.length) (hE : nxtE (b.drop at') ≠ 0) : scan b = (L, at', nxtE (b.drop at')) := by
  have hl : (b.drop at').length = b.length - at' := List.length_drop ..
  rw [h.2, scan_bad (by omega) hE]; simp

/-- A record that was written is read. -/
theorem nxt_recd {p : List Nat} (hp : Bts p) (hl : p.length ≤ 1048576) (t : List Nat) :
    nxtE (recd p ++ t) = 0 ∧ nxtN (recd p ++ t) = 8 + p.length ∧ nxtP (recd p ++ t) = p := by
  have h1 : (recd p ++ t).length = 8 + p.length + t.length := by rw [List.length_append, recd_len]
  have h2 : rd4 (recd p ++ t) = p.length := by
    unfold recd; rw [List.append_assoc]; exact rd4_le4 _ (by omega) _
  have hd8 : (recd p ++ t).drop 8 = p ++ t := by
    unfold recd
    simp [le4]
  have hd4 : (recd p ++ t).drop 4 = le4 (crc (le4 p.length ++ p)) ++ (p ++ t) := by
    unfold recd
    simp [le4]
  have ht4 : (recd p ++ t).take 4 = le4 p.length := by
    unfold recd
    simp [le4]
  have hc : crc (le4 p.length ++ p) < 4294967296 := ext_lt (by decide) ((le4_bts _).append hp)
  have hE : nxtE (recd p ++ t) = 0 := by
    unfold nxtE
    rw [h1, h2, if_neg (by omega), if_neg (by omega), if_neg (by omega), hd8, hd4, ht4, List.take_left, rd4_le4 _ hc, if_pos rfl]
  refine ⟨hE, ?_, ?_⟩
  · rw [(nxt_ok hE).2.2.1, h2]
  · rw [(nxt_ok hE).2.2.2.2, h2, hd8, List.take_left]

def recs (l : List (List Nat)) : List Nat := l.flatMap recd

theorem recs_cons (p : List Nat) (l : List (List Nat)) : recs (p :: l) = recd p ++ recs l := by simp [recs]
theorem recs_snoc (l : List (List Nat)) (p : List Nat) : recs (l ++ [p]) = recs l ++ recd p := by simp [recs]

def Pls (l : List (List Nat)) : Prop := ∀ p ∈ l, Bts p ∧ p.length ≤ 1048576

/-- Records that were written are read, whatever follows. -/
theorem scan_recs : ∀ (l : List (List Nat)) (t : List Nat), Pls l →
    scan (recs l ++ t) = (l ++ (scan t).1, (recs l).length + (scan t).2.1, (scan t).2.2)
  | [], t, _ => by simp [recs]
  | p :: l, t, h => by
    have hp := h p (List.mem_cons_self ..)
    have ih := scan_recs l t (fun q hq => h q (List.mem_cons_of_mem _ hq))
    rw [recs_cons, List.append_assoc]
    obtain ⟨hE, hN, hP⟩ := nxt_recd hp.1 hp.2 (recs l ++ t)
    have hl : (recd p ++ (recs l ++ t)).length ≠ 0 := by rw [List.length_append, recd_len]; omega
    have hd : (recd p ++ (recs l ++ t)).drop (8 + p.length) = recs l ++ t := by
      rw [← recd_len p, List.drop_left]
    rw [scan_ok hl hE, hN, hP, hd, ih]
    simp [recd_len]; omega

end Crc
