/-
  Join: plain facts and the row of texts.
-/
import Derived.Test.YtnkjppclhhjdmaaRows
import Derived.Test.YtnkjppclhhjdmaaLP
import Derived.Test.YtnkjppclhhjdmaaShelf2
import Derived.WalkKit
import Derived.WalkSpells
import Derived.StillTactics
import Derived.Laws.Pointers
import Derived.Laws.Strings
import Derived.Laws.Strings2
import Derived.Laws.BytesArg
import Derived.LoopTactic
import Derived.Outline
import Derived.Below
import Derived.Laws.Externs
import Derived.Deep.QuietTactic
import Derived.Deep.RegionWith
import Derived.BigQuiet
import Derived.RegionTactic
import Derived.ChangeAlike
import Derived.OwnWalk
import Derived.Laws.OwnMore
import Derived.Laws.Rows
import Derived.Laws.EntriesVeiled
import Derived.Lib.MinMax
import Derived.Lib.Strings
import Derived.Deep.OwnRows
namespace Go.Proofs.Ytnkjppclhhjdmaa
open Go.RowKit
set_option linter.unusedVariables false
set_option linter.unusedSimpArgs false
set_option linter.unnecessarySimpa false
set_option maxHeartbeats 4000000

/-- The texts, a space between. -/
def jB (xs : List ByteArray) : ByteArray := ⟨(Lib.join (xs.map (·.data.toList)) [32]).toArray⟩
def good (r : Rw) : Prop := Lx.kindE (bn r.t) = 0 ∧ r.k = (Lx.kindK (bn r.t) : Int)
instance (r : Rw) : Decidable (good r) := by unfold good; infer_instance
def jE (L : List Rw) : Nat := if ∀ r ∈ L, good r then (if 1024 < (jB (L.map Rw.t)).size then 5 else 0) else 30
def jS (L : List Rw) : ByteArray := if jE L = 0 then jB (L.map Rw.t) else ⟨#[]⟩
theorem kind_len {l : List Nat} (h : Lx.kindE l = 0) : l.length ≤ 32 := by
  unfold Lx.kindE at h
  split at h
  · cases h
  · omega
theorem jB_len : ∀ (xs : List ByteArray), (∀ x ∈ xs, x.size ≤ 32) → (Lib.join (xs.map (·.data.toList)) [32]).length ≤ 33 * xs.length
  | [], _ => by simp [Lib.join_nil]
  | x :: r, h => by
    rw [List.map_cons, Lib.join_cons]
    have e : ∀ r : List ByteArray, (∀ x ∈ r, x.size ≤ 32) → (Lib.joinTail [32] (r.map (·.data.toList))).length ≤ 33 * r.length := by
      intro r
      induction r with
      | nil => intro _; simp [Lib.joinTail]
      | cons y r ih =>
        intro h
        have h1 := h y (List.mem_cons_self ..)
        have h2 := ih (fun x hx => h x (List.mem_cons_of_mem _ hx))
        have h3 : y.data.toList.length = y.size := rfl
        simp only [Lib.joinTail, List.map_cons, List.flatten_cons, List.length_append, List.length_cons, List.length_nil, List.length_map] at h2 ⊢
        omega
    have h1 := h x (List.mem_cons_self ..)
    have h2 := e r (fun x hx => h x (List.mem_cons_of_mem _ hx))
    have h3 : x.data.toList.length = x.size := rfl
    rw [List.length_append, List.length_cons]
    omega
/-- The row of texts while it is filled. -/
def stC (xs : List ByteArray) (N : Nat) : Array Value := (xs.map Value.string ++ List.replicate (N - xs.length) (Value.string ⟨#[]⟩)).toArray
theorem stC_nil (N : Nat) : madeCells #[Value.string ⟨#[]⟩] N = stC [] N := by
  apply Array.ext'
  unfold stC
  simp only [List.map_nil, List.nil_append, List.length_nil, Nat.sub_zero]
  have hs := size_madeCells #[Value.string ⟨#[]⟩] N
  apply List.ext_getElem
  · simp [hs]
  · intro i h1 h2
    simp [madeCells]
    rw [Nat.mod_one]; rfl
theorem stC_get {xs : List ByteArray} {N i : Nat} {x : ByteArray} (h : xs[i]? = some x) : (stC xs N).toList[i]? = some (.string x) := by
  unfold stC
  have hi : i < xs.length := by
    rcases Nat.lt_or_ge i xs.length with h' | h'
    · exact h'
    · rw [List.getElem?_eq_none h'] at h; cases h
  show (xs.map Value.string ++ _)[i]? = _
  rw [List.getElem?_append_left (by simpa using hi), List.getElem?_map, h]; rfl
theorem stC_next {xs : List ByteArray} {N : Nat} (h : xs.length < N) : (stC xs N).toList[xs.length]? = some (.string ⟨#[]⟩) := by
  unfold stC
  show (xs.map Value.string ++ _)[xs.length]? = _
  rw [List.getElem?_append_right (by simp), List.length_map, Nat.sub_self, List.getElem?_replicate, if_pos (by omega)]
theorem stC_set {xs : List ByteArray} {N : Nat} (x : ByteArray) (h : xs.length < N) : (stC xs N).setIfInBounds xs.length (.string x) = stC (xs ++ [x]) N := by
  apply Array.ext'
  rw [Array.toList_setIfInBounds]
  unfold stC
  show (xs.map Value.string ++ List.replicate (N - xs.length) _).set xs.length _ = (xs ++ [x]).map Value.string ++ List.replicate (N - (xs ++ [x]).length) _
  rw [List.set_append_right _ _ (by simp), List.length_map, Nat.sub_self, List.map_append, List.length_append]
  have : N - xs.length = (N - (xs.length + 1)) + 1 := by omega
  rw [this, List.replicate_succ]
  simp
theorem Try.info9 : (Try.prog.info? 9).map (fun i => (i.zero, i.size, i.bytes)) = some (some (.string ⟨#[]⟩), 1, 16) := by kernel_rfl
theorem make_any (N : Nat) (h : N ≤ 1000000) (W : World) : (Instr.makeSlice 40 (.int .i64 (N : Int)) (.int .i64 (N : Int))).run Try.prog W = .ok (.slice (some ⟨W.heap.size, 0, none⟩) N N) (W.alloc (.cells (stC [] N) 9)) := by
  rw [← stC_nil]
  exact run_make_row' (P := Try.prog) 40 9 (.string ⟨#[]⟩) 16 Try.underlying40 Try.info9 rfl .i64 .i64 N (by omega) (by omega) W

end Go.Proofs.Ytnkjppclhhjdmaa
