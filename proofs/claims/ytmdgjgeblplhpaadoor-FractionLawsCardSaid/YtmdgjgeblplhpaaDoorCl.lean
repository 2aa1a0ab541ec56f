/-
  A list of blocks of two integers each, and what keeps them; three blocks that are made in whatever order. It speaks of no program.
-/
import Derived.Test.YtmdgjgeblplhpaaDoorBlk
import Derived.Test.YtmdgjgeblplhpaaDoorInv
namespace Go.Proofs.YtmdgjgeblplhpaaDoor
open Go Go.RowKit
set_option linter.unusedVariables false
set_option linter.unusedSimpArgs false

/-- The blocks of a list hold two integers each. -/
def Cl (L : List (Nat × Int × Int)) (wx : World) : Prop := ∀ b x y, (b, x, y) ∈ L → b < wx.heap.size ∧ wx.cell? ⟨b, 0, none⟩ = some (.int .i64 x) ∧ wx.cell? ⟨b, 1, none⟩ = some (.int .i64 y)
theorem Cl.keep {L : List (Nat × Int × Int)} {wx wy : World} (h : Cl L wx) (hb : Below wx.heap.size wx wy) : Cl L wy := by
  intro b x y hm
  obtain ⟨h0, h1, h2⟩ := h b x y hm
  have := hb.size
  exact ⟨by omega, (hb.cell (p := ⟨b, 0, none⟩) (by simpa using h0)).trans h1, (hb.cell (p := ⟨b, 1, none⟩) (by simpa using h0)).trans h2⟩
theorem Cl.store {L : List (Nat × Int × Int)} {wx : World} {b : Nat} {u v : Value} (h : Cl L wx) (hn : ∀ c x y, (c, x, y) ∈ L → c < b) : Cl L ((wx.setCell ⟨b, 0, none⟩ u).setCell ⟨b, 1, none⟩ v) := by
  intro c x y hm
  obtain ⟨h0, h1, h2⟩ := h c x y hm
  have := hn c x y hm
  have n0 : ¬ b = c := by omega
  have n1 : ¬ c = b := by omega
  exact ⟨by simpa using h0, by simp [go_sem, n0, n1, h1], by simp [go_sem, n0, n1, h2]⟩
theorem Cl.cons {L : List (Nat × Int × Int)} {wx : World} {b : Nat} {x y : Int} (h : Cl L wx) (h0 : b < wx.heap.size) (h1 : wx.cell? ⟨b, 0, none⟩ = some (.int .i64 x)) (h2 : wx.cell? ⟨b, 1, none⟩ = some (.int .i64 y)) : Cl ((b, x, y) :: L) wx := by
  intro c u v hm
  rcases List.mem_cons.1 hm with hm | hm
  · cases hm; exact ⟨h0, h1, h2⟩
  · exact h c u v hm
theorem FB.other {m b c : Nat} {x y : Int} {u v : Value} {wx : World} (h : FB m b x y wx) (hn : b ≠ c) : FB m b x y ((wx.setCell ⟨c, 0, none⟩ u).setCell ⟨c, 1, none⟩ v) := by
  obtain ⟨lo, hi, c0, c1, z0, z1⟩ := h
  have n0 : ¬ b = c := hn
  have n1 : ¬ c = b := fun h => hn h.symm
  exact ⟨lo, by simpa using hi, by simp [go_sem, n0, n1, c0], by simp [go_sem, n0, n1, c1], by simp [go_sem, n0, n1, z0], by simp [go_sem, n0, n1, z1]⟩

/-- What stays as it was while a region runs: all of the world of the call, and the boxes of the list. -/
structure RC (w : World) (L : List (Nat × Int × Int)) (m : Nat) (wx : World) : Prop where
  below : Below w.heap.size w wx
  size : m ≤ wx.heap.size
  lo : w.heap.size ≤ m
  cl : Cl L wx
  top : ∀ c x y, (c, x, y) ∈ L → c < m
theorem RC.keep {w wx wy : World} {L : List (Nat × Int × Int)} {m : Nat} (h : RC w L m wx) (hb : Below wx.heap.size wx wy) : RC w L m wy :=
  ⟨h.below.trans (hb.mono h.below.size), Nat.le_trans h.size hb.size, h.lo, h.cl.keep hb, h.top⟩
theorem RC.store {w wx : World} {L : List (Nat × Int × Int)} {m b : Nat} {u v : Value} (h : RC w L m wx) (hb : m ≤ b) : RC w L m ((wx.setCell ⟨b, 0, none⟩ u).setCell ⟨b, 1, none⟩ v) := by
  have := h.lo
  exact ⟨(h.below.setCell (by simp; omega) _).setCell (by simp; omega) _, by simpa using h.size, h.lo, h.cl.store (fun c x y hm => by have := h.top c x y hm; omega), h.top⟩
end Go.Proofs.YtmdgjgeblplhpaaDoor
