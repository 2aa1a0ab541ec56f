/-
  The two lists of tokens, side by side.
-/
import Derived.Test.YtnkjppclhhjdmaaRows
import Derived.Test.YtnkjppclhhjdmaaLI
import Derived.WalkKit
import Derived.WalkSpells
import Derived.StillTactics
import Derived.Laws.Pointers
import Derived.Laws.Strings
import Derived.Laws.Strings2
import Derived.Laws.BytesArg
import Derived.LoopTactic
import Derived.Outline
import Derived.Below
import Derived.Laws.Externs
import Derived.Deep.QuietTactic
import Derived.Deep.RegionWith
import Derived.BigQuiet
import Derived.RegionTactic
import Derived.ChangeAlike
import Derived.OwnWalk
import Derived.Laws.OwnMore
import Derived.Laws.Rows
import Derived.Laws.EntriesVeiled
import Derived.Lib.MinMax
import Derived.Lib.Strings
namespace Go.Proofs.Ytnkjppclhhjdmaa
open Go.RowKit
set_option linter.unusedVariables false
set_option linter.unusedSimpArgs false
set_option linter.unnecessarySimpa false

theorem OwR.row {w : World} {base : Nat} {v : Value} {L : List Lx.Tk} (h : OwR w base v L) (h0 : L.length ≠ 0) : ∃ g cap, v = .slice (some ⟨g, 0, none⟩) L.length cap ∧ g < w.heap.size ∧ ∀ i u, (tkL L)[i]? = some u → w.cell? ⟨g, i, none⟩ = some u := by
  rcases h.2 with ⟨hv, hz⟩ | ⟨g, cap, cur, hv, hb, hg, hc, hm, hs, ht⟩
  · exact absurd hz h0
  · refine ⟨g, cap, hv, (Array.getElem?_eq_some_iff.1 hg).1, fun i u hu => ?_⟩
    rw [cell_of_row w g i cur 36 (0, 0) hg]
    rw [← ht, List.getElem?_take] at hu
    split at hu
    · exact hu
    · cases hu

theorem tkL_at : ∀ {L : List Lx.Tk} {k : Nat} (j : Nat), k < L.length → j < 3 → (tkL L)[k * 3 + j]? = (tkC (L.getD k ⟨0, [], 0⟩))[j]?
  | [], k, j, h, _ => by simp at h
  | a :: L, 0, j, h, hj => by
    have e : tkL (a :: L) = tkC a ++ tkL L := by unfold tkL; rw [List.flatMap_cons]
    rw [e, Nat.zero_mul, Nat.zero_add, List.getElem?_append_left (by simp [tkC]; omega)]
    simp
  | a :: L, k + 1, j, h, hj => by
    have e : tkL (a :: L) = tkC a ++ tkL L := by unfold tkL; rw [List.flatMap_cons]
    have e2 : (tkC a).length = 3 := by simp [tkC]
    rw [e, List.getElem?_append_right (by omega), e2, show (k + 1) * 3 + j - 3 = k * 3 + j by omega, tkL_at j (by simpa using h) hj]
    simp
/-- What the two lists hold, cell by cell. -/
theorem both {s : ByteArray} {w w1 w2 : World} {v v2 : Value} {p e p2 e2 : Int} (h1 : TkP s w w1 v p e) (h2 : TkQ s w1 w2 v2 p2 e2) (hb : Below w1.heap.size w1 w2) :
    p = p2 ∧ e = e2 ∧ ∃ (N : Nat) (a a2 : Option Addr) (c c2 : Nat), v = .slice a N c ∧ v2 = .slice a2 N c2 ∧ N ≤ 1024 ∧ ∀ k, k < N → ∃ g g2 x y z, a = some ⟨g, 0, none⟩ ∧ a2 = some ⟨g2, 0, none⟩ ∧ g < w2.heap.size ∧ g2 < w2.heap.size ∧
      w2.cell? ⟨g, k * 3, none⟩ = some (.int .i64 x) ∧ w2.cell? ⟨g, k * 3 + 1, none⟩ = some (.string y) ∧ w2.cell? ⟨g, k * 3 + 2, none⟩ = some (.int .i64 z) ∧
      w2.cell? ⟨g2, k * 3, none⟩ = some (.int .i64 x) ∧ w2.cell? ⟨g2, k * 3 + 1, none⟩ = some (.string y) ∧ w2.cell? ⟨g2, k * 3 + 2, none⟩ = some (.int .i64 z) := by
  unfold TkP at h1
  unfold TkQ at h2
  by_cases hs : 1024 < s.size
  · rw [if_pos hs] at h1 h2
    obtain ⟨rfl, rfl, rfl⟩ := h1
    obtain ⟨rfl, rfl, rfl⟩ := h2
    exact ⟨rfl, rfl, 0, none, none, 0, 0, rfl, rfl, by omega, fun k hk => absurd hk (Nat.not_lt_zero k)⟩
  · rw [if_neg hs] at h1 h2
    obtain ⟨rfl, rfl, hl, ho⟩ := h1
    obtain ⟨rfl, rfl, _, ho2⟩ := h2
    generalize (Lx.tok 0 (bn s)).1 = L at *
    by_cases h0 : L.length = 0
    · obtain ⟨a1, c1, rfl⟩ : ∃ a c, v = .slice a 0 c := by
        rcases ho.2 with ⟨hv, _⟩ | ⟨g, cap, cur, hv, _⟩
        · exact ⟨_, _, hv⟩
        · exact ⟨_, _, by rw [hv, h0]⟩
      obtain ⟨a2, c2, rfl⟩ : ∃ a c, v2 = .slice a 0 c := by
        rcases ho2.2 with ⟨hv, _⟩ | ⟨g, cap, cur, hv, _⟩
        · exact ⟨_, _, hv⟩
        · exact ⟨_, _, by rw [hv, h0]⟩
      exact ⟨rfl, rfl, 0, a1, a2, c1, c2, rfl, rfl, by omega, fun k hk => absurd hk (Nat.not_lt_zero k)⟩
    · obtain ⟨g, cap, rfl, hg, hc⟩ := ho.row h0
      obtain ⟨g2, cap2, rfl, hg2, hc2⟩ := ho2.row h0
      refine ⟨rfl, rfl, L.length, some ⟨g, 0, none⟩, some ⟨g2, 0, none⟩, cap, cap2, rfl, rfl, hl, fun k hk => ⟨g, g2, _, _, _, rfl, rfl, by have := hb.size; omega, hg2,
        (hb.cell (p := ⟨g, k * 3, none⟩) hg).trans (hc _ _ (by rw [← Nat.add_zero (k * 3), tkL_at 0 hk (by decide)]; rfl)),
        (hb.cell (p := ⟨g, k * 3 + 1, none⟩) hg).trans (hc _ _ (by rw [tkL_at 1 hk (by decide)]; rfl)),
        (hb.cell (p := ⟨g, k * 3 + 2, none⟩) hg).trans (hc _ _ (by rw [tkL_at 2 hk (by decide)]; rfl)),
        hc2 _ _ (by rw [← Nat.add_zero (k * 3), tkL_at 0 hk (by decide)]; rfl), hc2 _ _ (by rw [tkL_at 1 hk (by decide)]; rfl), hc2 _ _ (by rw [tkL_at 2 hk (by decide)]; rfl)⟩⟩

end Go.Proofs.Ytnkjppclhhjdmaa
