/-
  A block of two integers that has been made since, and what keeps it. It speaks of no program.
-/
import Derived.Test.YtmdgjgeblplhpaaDoorFr10
namespace Go.Proofs.YtmdgjgeblplhpaaDoor
open Go Go.RowKit
set_option linter.unusedVariables false
set_option linter.unusedSimpArgs false

/-- A block of two integers that has been made since. -/
structure FB (m b : Nat) (x y : Int) (wx : World) : Prop where
  lo : m ≤ b
  hi : b < wx.heap.size
  c0 : wx.cell? ⟨b, 0, none⟩ = some (.int .i64 x)
  c1 : wx.cell? ⟨b, 1, none⟩ = some (.int .i64 y)
  z0 : wx.frozen? ⟨b, 0, none⟩ = false
  z1 : wx.frozen? ⟨b, 1, none⟩ = false
theorem FB.keep {m b : Nat} {x y : Int} {wx wy : World} (h : FB m b x y wx) (hb : Below wx.heap.size wx wy) : FB m b x y wy := by
  have s := h.hi
  have s2 := hb.size
  exact ⟨h.lo, by omega, (hb.cell (p := ⟨b, 0, none⟩) (by simp; omega)).trans h.c0, (hb.cell (p := ⟨b, 1, none⟩) (by simp; omega)).trans h.c1,
    (hb.frozen (p := ⟨b, 0, none⟩) (by simp; omega)).trans h.z0, (hb.frozen (p := ⟨b, 1, none⟩) (by simp; omega)).trans h.z1⟩

theorem FB.store {m b : Nat} {x y : Int} {wx : World} (h : FB m b x y wx) (A B : Int) : FB m b A B ((wx.setCell ⟨b, 0, none⟩ (.int .i64 A)).setCell ⟨b, 1, none⟩ (.int .i64 B)) := by
  obtain ⟨lo, hi, c0, c1, z0, z1⟩ := h
  exact ⟨lo, by simpa using hi, by simp [go_sem, c0, c1, z0, z1], by simp [go_sem, c0, c1, z0, z1], by simp [go_sem, c0, c1, z0, z1], by simp [go_sem, c0, c1, z0, z1]⟩
end Go.Proofs.YtmdgjgeblplhpaaDoor
