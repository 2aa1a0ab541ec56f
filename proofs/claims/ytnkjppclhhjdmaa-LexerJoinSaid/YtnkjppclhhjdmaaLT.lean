/-
  Joined lines: plain facts.
-/
import Derived.Test.YtnkjppclhhjdmaaRows
import Derived.Test.YtnkjppclhhjdmaaLS
import Derived.Test.YtnkjppclhhjdmaaLexerBlanksWalk
import Derived.WalkKit
import Derived.WalkSpells
import Derived.StillTactics
import Derived.Laws.Pointers
import Derived.Laws.Strings
import Derived.Laws.Strings2
import Derived.Laws.BytesArg
import Derived.LoopTactic
import Derived.Outline
import Derived.Below
import Derived.Laws.Externs
import Derived.Deep.QuietTactic
import Derived.Deep.RegionWith
import Derived.BigQuiet
import Derived.RegionTactic
import Derived.ChangeAlike
import Derived.OwnWalk
import Derived.Laws.OwnMore
import Derived.Laws.Rows
import Derived.Laws.EntriesVeiled
import Derived.Lib.MinMax
import Derived.Lib.Strings
namespace Go.Proofs.Ytnkjppclhhjdmaa
open Go.RowKit
set_option linter.unusedVariables false
set_option linter.unusedSimpArgs false
set_option linter.unnecessarySimpa false
set_option maxHeartbeats 4000000

theorem bn_arr (l : List UInt8) : bn ⟨l.toArray⟩ = l.map UInt8.toNat := rfl
theorem bn_list (x : ByteArray) : x.data.toList.map UInt8.toNat = bn x := rfl
/-- The joined line, laid out. -/
def jQ : List ByteArray → List (List Nat × List Nat)
  | [] => []
  | x :: r => ([], bn x) :: r.map fun y => ([32], bn y)
theorem bn_jB (xs : List ByteArray) : bn (jB xs) = Lx.flat (jQ xs) := by
  cases xs with
  | nil => rfl
  | cons x r =>
    unfold jB
    rw [bn_arr, List.map_cons, Lib.join_cons, List.map_append, bn_list]
    unfold jQ
    rw [Lx.flat_cons]
    show bn x ++ _ = [] ++ bn x ++ _
    rw [List.nil_append]
    congr 1
    induction r with
    | nil => rfl
    | cons y r ih =>
      rw [List.map_cons, List.map_cons, Lx.flat_cons, ← ih]
      simp [Lib.joinTail, bn_list]
theorem jQ_snd (xs : List ByteArray) : (jQ xs).map (fun q => q.2) = xs.map bn := by
  cases xs with
  | nil => rfl
  | cons x r => simp [jQ, List.map_map]
theorem jE_zero {L : List Rw} (h : jE L = 0) : (∀ r ∈ L, good r) ∧ (jB (L.map Rw.t)).size ≤ 1024 ∧ jS L = jB (L.map Rw.t) := by
  have h0 := h
  unfold jE at h
  split at h
  · rename_i hg
    split at h
    · cases h
    · exact ⟨hg, by omega, by unfold jS; rw [if_pos h0]⟩
  · cases h
/-- The tokens of a joined line. -/
theorem tok_join {L : List Rw} (h : jE L = 0) : ∃ M, Lx.tok 0 (bn (jS L)) = (M, 0, 0) ∧ (M.map rwT).map kt = L.map kt := by
  obtain ⟨hg, hs, he⟩ := jE_zero h
  rw [he, bn_jB]
  have hq : ∀ q ∈ jQ (L.map Rw.t), q.1.all Lx.blk = true ∧ Lx.kindE q.2 = 0 := by
    intro q hq
    have h2 : q.2 ∈ (jQ (L.map Rw.t)).map (fun q => q.2) := List.mem_map_of_mem hq
    rw [jQ_snd] at h2
    obtain ⟨t, ht, e⟩ := List.mem_map.1 h2
    obtain ⟨r, hr, rfl⟩ := List.mem_map.1 ht
    refine ⟨?_, by rw [← e]; exact (hg r hr).1⟩
    cases hL : L.map Rw.t with
    | nil => rw [hL] at hq; cases hq
    | cons x r =>
      rw [hL] at hq
      rcases List.mem_cons.1 hq with rfl | hq
      · rfl
      · obtain ⟨y, _, rfl⟩ := List.mem_map.1 hq; rfl
  obtain ⟨M, hM, hm, _⟩ := Lx.tok_flat (X := []) (.inl rfl) (fun n => Lx.tok_tail (B := []) rfl (.inl rfl)) (jQ (L.map Rw.t)) 0 hq (fun j q hj h0 => by
    cases hL : L.map Rw.t with
    | nil => rw [hL] at hj; simp [jQ] at hj
    | cons x r =>
      rw [hL] at hj
      cases j with
      | zero => omega
      | succ j =>
        simp only [jQ, List.getElem?_cons_succ, List.getElem?_map, Option.map_eq_some_iff] at hj
        obtain ⟨y, _, rfl⟩ := hj
        simp)
  rw [List.append_nil] at hM
  refine ⟨M, hM, ?_⟩
  have e : (M.map rwT).map kt = (M.map (fun t => (t.kind, t.text))).map (fun q : Nat × List Nat => ((q.1 : Int), bs q.2)) := by rw [List.map_map, List.map_map]; rfl
  have e1 : (jQ (L.map Rw.t)).map (fun q => (Lx.kindK q.2, q.2)) = ((jQ (L.map Rw.t)).map (fun q => q.2)).map (fun T => (Lx.kindK T, T)) := by rw [List.map_map]; rfl
  rw [e, hm, e1, jQ_snd, List.map_map, List.map_map, List.map_map]
  apply List.map_congr_left
  intro r hr
  show (((Lx.kindK (bn r.t) : Nat) : Int), bs (bn r.t)) = (r.k, r.t)
  rw [bs_bn, (hg r hr).2]
theorem jQ_len (xs : List ByteArray) : (Lx.flat (jQ xs)).length + 1 = (xs.map ByteArray.size).sum + (if xs = [] then 1 else xs.length) := by
  cases xs with
  | nil => rfl
  | cons x r =>
    unfold jQ
    rw [Lx.flat_cons, if_neg (by simp)]
    have e : ∀ r : List ByteArray, (Lx.flat (r.map fun y => ([32], bn y))).length = (r.map ByteArray.size).sum + r.length := by
      intro r
      induction r with
      | nil => rfl
      | cons y r ih => rw [List.map_cons, Lx.flat_cons, List.length_append, ih]; simp [bn_len]; omega
    rw [List.length_append, e]
    simp [bn_len]; omega
/-- The tokens of a line may be joined. -/
theorem gap_join {s : ByteArray} {L : List Lx.Tk} (h : Lx.Gap 0 (bn s) L) (hs : s.size ≤ 1024) : jE (L.map rwT) = 0 := by
  have hb : ∀ t ∈ L, bn (bs t.text) = t.text := by
    intro t ht
    obtain ⟨i, hi, e⟩ := List.getElem_of_mem ht
    have := gap_bn s L 0 (bn s) h (fun c hc => bn_lt s c hc) i hi
    rw [List.getD_eq_getElem?_getD, List.getElem?_eq_getElem hi, Option.getD_some, e] at this
    exact this
  have hk := Lx.gap_kinds L 0 _ h
  have hg : ∀ r ∈ L.map rwT, good r := by
    intro r hr
    obtain ⟨t, ht, rfl⟩ := List.mem_map.1 hr
    exact ⟨by show Lx.kindE (bn (bs t.text)) = 0; rw [hb t ht]; exact (hk t ht).1, by show (t.kind : Int) = _; show (t.kind : Int) = ((Lx.kindK (bn (bs t.text)) : Nat) : Int); rw [hb t ht, (hk t ht).2]⟩
  have hz : (jB ((L.map rwT).map Rw.t)).size ≤ 1024 := by
    rw [← bn_len, bn_jB]
    have h1 := jQ_len ((L.map rwT).map Rw.t)
    have h2 := Lx.gap_sum1 L 0 _ h
    rw [bn_len] at h2
    have h3 : (((L.map rwT).map Rw.t).map ByteArray.size).sum = Lx.sumT L := by
      unfold Lx.sumT
      rw [List.map_map, List.map_map]
      congr 1
      apply List.map_congr_left
      intro t ht
      show (bs t.text).size = t.text.length
      rw [bs_len]
    rw [h3] at h1
    split at h1
    · rename_i h4
      have : L = [] := by simpa using h4
      subst this
      show (0 : Nat) ≤ 1024
      omega
    · rw [List.length_map, List.length_map] at h1
      omega
  unfold jE
  rw [if_pos hg, if_neg (by omega)]
theorem jE_kt {L M : List Rw} (h : L.map kt = M.map kt) : jE L = jE M ∧ jS L = jS M := by
  have ht : L.map Rw.t = M.map Rw.t := by
    have := congrArg (List.map Prod.snd) h
    simp only [List.map_map] at this
    exact this
  have hg : (∀ r ∈ L, good r) ↔ (∀ r ∈ M, good r) := by
    have key : ∀ L : List Rw, (∀ r ∈ L, good r) ↔ ∀ q ∈ L.map kt, Lx.kindE (bn q.2) = 0 ∧ q.1 = (Lx.kindK (bn q.2) : Int) := by
      intro L
      constructor
      · intro h q hq
        obtain ⟨r, hr, rfl⟩ := List.mem_map.1 hq
        exact h r hr
      · intro h r hr
        exact h (kt r) (List.mem_map_of_mem hr)
    rw [key, key, h]
  have e : jE L = jE M := by
    unfold jE
    rw [ht]
    by_cases hL : ∀ r ∈ L, good r
    · rw [if_pos hL, if_pos (hg.1 hL)]
    · rw [if_neg hL, if_neg (fun h => hL (hg.2 h))]
  exact ⟨e, by unfold jS; rw [e, ht]⟩

end Go.Proofs.Ytnkjppclhhjdmaa
