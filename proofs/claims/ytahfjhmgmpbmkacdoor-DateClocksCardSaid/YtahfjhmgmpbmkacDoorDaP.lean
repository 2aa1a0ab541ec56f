/-
  The boxes of DateClocks.
-/
import Derived.Test.YtahfjhmgmpbmkacDoorDaO
import Derived.Test.YtahfjhmgmpbmkacDoorDateParseWalk
import Derived.RegionTactic
namespace Go.Proofs.YtahfjhmgmpbmkacDoor
open Go.RowKit
set_option linter.unusedVariables false

/-- Two boxes of two cells that may be written. -/
def Bx (g h : Nat) (a b c d : Int) (W : World) : Prop := W.cell? ⟨g, 0, none⟩ = some (.int .i64 a) ∧ W.cell? ⟨g, 1, none⟩ = some (.int .i64 b) ∧ W.cell? ⟨h, 0, none⟩ = some (.int .i64 c) ∧ W.cell? ⟨h, 1, none⟩ = some (.int .i64 d) ∧
  W.frozen? ⟨g, 0, none⟩ = false ∧ W.frozen? ⟨h, 0, none⟩ = false ∧ g < W.heap.size ∧ h < W.heap.size
theorem Bx.keep {g h : Nat} {a b c d : Int} {W W' : World} (q : Bx g h a b c d W) (hb : Below W.heap.size W W') : Bx g h a b c d W' := by
  obtain ⟨q0, q1, q2, q3, q4, q5, q6, q7⟩ := q
  exact ⟨(hb.cell (p := ⟨g, 0, none⟩) q6).trans q0, (hb.cell (p := ⟨g, 1, none⟩) q6).trans q1, (hb.cell (p := ⟨h, 0, none⟩) q7).trans q2, (hb.cell (p := ⟨h, 1, none⟩) q7).trans q3, (hb.frozen (p := ⟨g, 0, none⟩) q6).trans q4, (hb.frozen (p := ⟨h, 0, none⟩) q7).trans q5, Nat.lt_of_lt_of_le q6 hb.size, Nat.lt_of_lt_of_le q7 hb.size⟩
theorem bx_new (w : World) (a b c d : Int) : Bx w.heap.size (w.heap.size + 1) a b c d ((w.alloc (.cells #[.int .i64 a, .int .i64 b] 55)).alloc (.cells #[.int .i64 c, .int .i64 d] 55)) := by
  refine ⟨?_, ?_, ?_, ?_, ?_, ?_, by simp; omega, by simp⟩ <;> simp [go_sem]
theorem bx_set {g : Nat} {a b c d : Int} {W : World} (q : Bx g (g + 1) a b c d W) (A C : Int) : Bx g (g + 1) A b C d ((W.setCell ⟨g, 0, none⟩ (.int .i64 A)).setCell ⟨g + 1, 0, none⟩ (.int .i64 C)) := by
  obtain ⟨q0, q1, q2, q3, q4, q5, q6, q7⟩ := q
  refine ⟨?_, ?_, ?_, ?_, ?_, ?_, by simpa using q6, by simpa using q7⟩ <;> simp [go_sem, q0, q1, q2, q3, q4, q5]
end Go.Proofs.YtahfjhmgmpbmkacDoor
