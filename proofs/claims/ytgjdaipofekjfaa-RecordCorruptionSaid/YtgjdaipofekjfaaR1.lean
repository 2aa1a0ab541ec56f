/-
  Small helpers: equal results, hidden facts; a slice of bytes that reads as a list.
-/
import Derived.Test.YtgjdaipofekjfaaRows
import Derived.Test.YtgjdaipofekjfaaC2
import Derived.WalkKit
import Derived.WalkSpells
import Derived.StillTactics
import Derived.Laws.Pointers
import Derived.LoopTactic
import Derived.Outline
import Derived.Below
import Derived.Laws.Externs
import Derived.Deep.QuietTactic
import Derived.Deep.RegionWith
import Derived.BigQuiet
import Derived.RegionTactic
import Derived.ChangeAlike
import Derived.OwnWalk
import Derived.Laws.OwnMore
import Derived.Laws.Rows
namespace Go.Proofs.Ytgjdaipofekjfaa
open Go.RowKit
set_option linter.unusedVariables false
set_option linter.unusedSimpArgs false
set_option linter.unnecessarySimpa false

theorem ret_i {k : IntKind} {a b : Int} (h : a = b) : Ending.returned (.int k a) = .returned (.int k b) := by rw [h]
theorem ret_b {a b : Bool} (h : a = b) : Ending.returned (.bool a) = .returned (.bool b) := by rw [h]
theorem hide {p : Prop} (h : p) : Hid p := h
theorem below_drewN {B : Nat} {a w : World} (h : Below B a w) (n : Nat) : Below B a (w.drewN n) := ⟨h.os, h.tape, h.output, h.size, h.block⟩

/-- The slice value v reads as the bytes l. -/
def RdB (w : World) (v : Value) (l : List Nat) : Prop :=
  Crc.Bts l ∧ ((∃ a, v = .slice a 0 0 ∧ l = []) ∨
    ∃ b off cap, v = .slice (some ⟨b, off, none⟩) l.length cap ∧ l.length ≤ cap ∧ cap ≤ maxLen ∧ b < w.heap.size ∧
      ∀ k, k < l.length → w.cell? ⟨b, off + k, none⟩ = some (.int .u8 ((l.getD k 0 : Nat) : Int)))

theorem RdB.keep {W w : World} {v : Value} {l : List Nat} (h : RdB W v l) (hb : Below W.heap.size W w) : RdB w v l := by
  refine ⟨h.1, ?_⟩
  rcases h.2 with h | ⟨b, off, cap, hv, h1, h2, h3, hc⟩
  · exact .inl h
  · exact .inr ⟨b, off, cap, hv, h1, h2, by have := hb.size; omega, fun k hk => (hb.cell (p := ⟨b, off + k, none⟩) h3).trans (hc k hk)⟩

theorem RdB.nil (w : World) : RdB w (.slice none 0 0) [] := ⟨(by intro c hc; cases hc), Or.inl ⟨none, rfl, rfl⟩⟩

/-- The bytes as cells. -/
def cB (l : List Nat) : List Value := l.map fun c : Nat => Value.int .u8 (c : Int)

theorem RdB.of_owns {w : World} {base : Nat} {v : Value} {n : Nat} {l : List Nat} (hl : Crc.Bts l) (h : w.ownsRow base 5 1 v n (cB l)) : RdB w v l := by
  refine ⟨hl, ?_⟩
  have hn : l.length = n := by have := h.1; simpa [cB] using this
  rcases h.2 with ⟨hv, h0⟩ | ⟨g, cap, cur, hv, hb, hg, hc, hm, hs, ht⟩
  · left; refine ⟨none, hv, ?_⟩; subst h0; exact List.length_eq_zero_iff.1 hn
  · right
    refine ⟨g, 0, cap, by rw [hn]; exact hv, by omega, hm, (Array.getElem?_eq_some_iff.1 hg).1, fun k hk => ?_⟩
    rw [Nat.zero_add, cell_of_row w g k cur 5 (0, 0) hg]
    have h1 : (cB l)[k]? = some (.int .u8 ((l.getD k 0 : Nat) : Int)) := by
      simp [cB, List.getElem?_map, List.getElem?_eq_getElem hk]
    rw [← ht, List.getElem?_take] at h1
    split at h1
    · simpa using h1
    · cases h1
end Go.Proofs.Ytgjdaipofekjfaa
