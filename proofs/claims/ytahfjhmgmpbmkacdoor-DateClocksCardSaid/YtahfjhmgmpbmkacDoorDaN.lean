/-
  Contract of CompareClock at this translation; FormatClock where it answers nothing; the reference's FormatClock.
-/
import Derived.Test.YtahfjhmgmpbmkacDoorDaM
namespace Go.Proofs.YtahfjhmgmpbmkacDoor
open Go.RowKit
set_option linter.unusedVariables false

set_option maxHeartbeats 4000000 in
set_option maxRecDepth 20000 in
theorem cc_any (a b c d : Int) (w : World) : Calls Tryd.prog 42 #[.agg #[.int .i64 a, .int .i64 b], .agg #[.int .i64 c, .int .i64 d]] w fun e w' => e = .returned (.int .i64 (cmpC a b c d)) ∧ Below w.heap.size w w' := by
  have HC : Hid (cmpC a b c d = if cmpI a c = 0 then cmpI b d else cmpI a c) := hide rfl
  obtain ⟨V, hV⟩ : ∃ V, V = cmpC a b c d := ⟨_, rfl⟩
  rw [← hV] at HC ⊢
  clear hV
  have c1 := fun w => hide (cmp_any a c w)
  have c2 := fun w => hide (cmp_any b d w)
  generalize hp : cmpI a c = p at *
  generalize hq : cmpI b d = q at *
  clear hp hq
  have B0 := hide (((Below.refl w.heap.size w).alloc (Nat.le_refl _) (.cells #[.int .i64 a, .int .i64 b] 55)).alloc (by simp) (.cells #[.int .i64 c, .int .i64 d] 55))
  have B1 := hide ((B0.out.drew).alloc B0.out.drew.size (.cells #[.int .i64 p, .int .i64 q] 3))
  have oc : ∀ (g : Nat) (w : World), w.cell? ⟨g, 0, none⟩ = some (.int .i64 p) → w.cell? ⟨g, 1, none⟩ = some (.int .i64 q) → Calls Tryd.prog 55 #[.slice (some ⟨g, 0, none⟩) 2 2] w fun e w' => e = .returned (.int .i64 V) ∧ w = w' := fun g w x y => by
    have := or_any g p q w x y
    rwa [← HC.out] at this
  clear HC
  go_enter Tryd.func42, Tryd.ntmps42
  go_wp2_with fail
  generalize hW : (w.alloc (.cells #[.int .i64 a, .int .i64 b] 55)).alloc (.cells #[.int .i64 c, .int .i64 d] 55) = W at *
  have f0 : W.cell? ⟨w.heap.size, 0, none⟩ = some (.int .i64 a) := by rw [← hW]; simp [go_sem]
  have f1 : W.cell? ⟨w.heap.size, 1, none⟩ = some (.int .i64 b) := by rw [← hW]; simp [go_sem]
  have f2 : W.cell? ⟨w.heap.size + 1, 0, none⟩ = some (.int .i64 c) := by rw [← hW]; simp [go_sem]
  have f3 : W.cell? ⟨w.heap.size + 1, 1, none⟩ = some (.int .i64 d) := by rw [← hW]; simp [go_sem]
  have hz : W.heap.size = w.heap.size + 1 + 1 := by rw [← hW]; simp
  clear hW
  have n0 : (W.alloc (.cells #[.int .i64 p, .int .i64 q] 3)).cell? ⟨w.heap.size + 1 + 1, 0, none⟩ = some (.int .i64 p) := by rw [← hz]; simp [go_sem]
  have n1 : (W.alloc (.cells #[.int .i64 p, .int .i64 q] 3)).cell? ⟨w.heap.size + 1 + 1, 1, none⟩ = some (.int .i64 q) := by rw [← hz]; simp [go_sem]
  have f0' : W.drew.cell? ⟨w.heap.size, 0, none⟩ = some (.int .i64 a) := f0
  have f1' : W.drew.cell? ⟨w.heap.size, 1, none⟩ = some (.int .i64 b) := f1
  have f2' : W.drew.cell? ⟨w.heap.size + 1, 0, none⟩ = some (.int .i64 c) := f2
  have f3' : W.drew.cell? ⟨w.heap.size + 1, 1, none⟩ = some (.int .i64 d) := f3
  go_region_held3 (fun w' => w'.cell? ⟨w.heap.size, 0, none⟩ = some (.int .i64 a) ∧ w'.cell? ⟨w.heap.size, 1, none⟩ = some (.int .i64 b) ∧ w'.cell? ⟨w.heap.size + 1, 0, none⟩ = some (.int .i64 c) ∧ w'.cell? ⟨w.heap.size + 1, 1, none⟩ = some (.int .i64 d)) (first | exact ⟨f0', f1', f2', f3'⟩ | (refine ⟨?_, ?_, ?_, ?_⟩ <;> (simp [go_sem, hz, f0, f1, f2, f3] <;> omega)) | (refine ⟨?_, ?_, ?_, ?_⟩ <;> simp [go_sem, hz, f0, f1, f2, f3])) (first | (go_at_call_of 56 (Value.int .i64 a); (with_reducible refine (c1 _).out.mono ?_); rintro e w' ⟨rfl, rfl⟩) | (go_at_call_of 56 (Value.int .i64 b); (with_reducible refine (c2 _).out.mono ?_); rintro e w' ⟨rfl, rfl⟩) | (go_at_call 55; refine (oc _ _ (by simp [go_sem, n0]) (by simp [go_sem, n1])).mono ?_; rintro e w' ⟨rfl, rfl⟩))
  all_goals go_wp2_with fail
  all_goals go_ret
  all_goals exact ⟨rfl, B1.out⟩
end Go.Proofs.YtahfjhmgmpbmkacDoor
