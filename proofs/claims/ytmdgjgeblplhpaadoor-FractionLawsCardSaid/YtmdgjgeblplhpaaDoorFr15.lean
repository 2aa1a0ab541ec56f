/-
  The example of the chapter (the statements' 'known') holds at this translation, in every world in which the tables lie.
-/
import Derived.Test.YtmdgjgeblplhpaaDoorFr14
namespace Go.Proofs.YtmdgjgeblplhpaaDoor
open Go.RowKit
set_option linter.unusedVariables false

theorem new_at {n d a b : Int} (w : World) (hn : I64 n) (hd : I64 d) (e1 : nwN n d = a) (e2 : nwD n d = b) (e3 : nwE n d = 0) :
    Calls Tryd.prog 12 #[.int .i64 n, .int .i64 d] w fun e w' => e = .returned (.tuple #[.agg #[.int .i64 a, .int .i64 b], .int .i64 0]) ∧ Below w.heap.size w w' := by
  have := new_any n d w hn hd
  rwa [e1, e2, e3] at this
theorem of_at {n d x m v a b : Int} (w : World) (hn : I64 n) (hd : I64 d) (e0 : ofV n d x m = v) (e1 : ofN n d x m = a) (e2 : ofD n d x m = b) (e3 : ofE n d x m = 0) :
    Calls Tryd.prog 24 #[.agg #[.int .i64 n, .int .i64 d], .int .i64 x, .int .i64 m] w fun e w' => e = .returned (.tuple #[.int .i64 v, .agg #[.int .i64 a, .int .i64 b], .int .i64 0]) ∧ Below w.heap.size w w' := by
  have := of_any n d x m w hn hd
  unfold OfPost at this
  rwa [e0, e1, e2, e3] at this

set_option maxHeartbeats 4000000 in
set_option maxRecDepth 20000 in
theorem known_any (w : World) (T : Tabs w) : Calls Tryd.prog 16 #[] w fun e w' => e = .returned (.bool true) ∧ Below w.heap.size w w' := by
  have N1 := fun w => hide (new_at (n := 6) (d := -4) (a := -3) (b := 2) w (by unfold I64; decide) (by unfold I64; decide) (by decide) (by decide) (by decide))
  have N2 := fun w => hide (new_at (n := 1) (d := 3) (a := 1) (b := 3) w (by unfold I64; decide) (by unfold I64; decide) (by decide) (by decide) (by decide))
  have O := fun w => hide (of_at (n := 1) (d := 3) (x := 5) (m := 1) (v := 2) (a := -1) (b := 3) w (by unfold I64; decide) (by unfold I64; decide) (by decide) (by decide) (by decide) (by decide))
  have ST := fun w T => hide (string_known w T)
  have SP := fun b w h l => hide (split3 b w h l)
  have HT := hide T
  clear T
  go_enter Tryd.func16, Tryd.ntmps16
  go_wp2_with fail
  refine (N1 _).out.mono ?_
  rintro e w1 ⟨rfl, hb⟩
  have HB1 := hide hb
  clear hb
  go_wp2_with fail
  refine (N2 _).out.mono ?_
  rintro e w2 ⟨rfl, hb⟩
  have c0 := (hb.cell (p := ⟨w1.heap.size, 0, none⟩) (by simp)).trans (show _ = some (Value.int .i64 (-3)) by simp [go_sem])
  have c1 := (hb.cell (p := ⟨w1.heap.size, 1, none⟩) (by simp)).trans (show _ = some (Value.int .i64 2) by simp [go_sem])
  have z1 : w1.heap.size + 1 ≤ w2.heap.size := by have := hb.size; simp at this; omega
  have HB2 := hide (show Below w.heap.size w w2 from (HB1.out.alloc HB1.out.size _).trans (hb.mono (by have := HB1.out.size; simp; omega)))
  clear hb
  go_wp2_with fail
  refine (O _).out.mono ?_
  rintro e w3 ⟨rfl, hb⟩
  have c0 := (hb.cell (p := ⟨w1.heap.size, 0, none⟩) (by simp; omega)).trans ((((Below.refl w2.heap.size w2).alloc (Nat.le_refl _) _).cell (p := ⟨w1.heap.size, 0, none⟩) (by simp; omega)).trans c0)
  have c1 := (hb.cell (p := ⟨w1.heap.size, 1, none⟩) (by simp; omega)).trans ((((Below.refl w2.heap.size w2).alloc (Nat.le_refl _) _).cell (p := ⟨w1.heap.size, 1, none⟩) (by simp; omega)).trans c1)
  have z2 : w2.heap.size + 1 ≤ w3.heap.size := by have := hb.size; simp at this; omega
  have HB3 := hide (show Below w.heap.size w w3 from (HB2.out.alloc HB2.out.size _).trans (hb.mono (by have := HB2.out.size; simp; omega)))
  clear hb
  go_wp2_with fail
  refine (SP _ _ ?_ ?_).out.mono ?_
  · refine ⟨?_, ?_, ?_⟩ <;> simp [go_sem]
  · simp
  rintro e w4 ⟨rfl, hb, hR, hF, hz⟩
  have hz' : w3.heap.size + 1 + 1 < w4.heap.size := by simp at hz; omega
  have k0 : ∀ o o', ((w3.alloc o).alloc o').cell? ⟨w1.heap.size, 0, none⟩ = some (Value.int .i64 (-3)) := fun o o' => ((((Below.refl w3.heap.size w3).alloc (Nat.le_refl _) o).alloc (by simp) o').cell (p := ⟨w1.heap.size, 0, none⟩) (by simp; omega)).trans c0
  have k1 : ∀ o o', ((w3.alloc o).alloc o').cell? ⟨w1.heap.size, 1, none⟩ = some (Value.int .i64 2) := fun o o' => ((((Below.refl w3.heap.size w3).alloc (Nat.le_refl _) o).alloc (by simp) o').cell (p := ⟨w1.heap.size, 1, none⟩) (by simp; omega)).trans c1
  have c0 := (hb.cell (p := ⟨w1.heap.size, 0, none⟩) (by simp; omega)).trans (k0 _ _)
  have c1 := (hb.cell (p := ⟨w1.heap.size, 1, none⟩) (by simp; omega)).trans (k1 _ _)
  have q0 := (hb.cell (p := ⟨w3.heap.size, 0, none⟩) (by simp; omega)).trans (show _ = some (Value.int .i64 (-1)) by simp [go_sem])
  have q1 := (hb.cell (p := ⟨w3.heap.size, 1, none⟩) (by simp; omega)).trans (show _ = some (Value.int .i64 3) by simp [go_sem])
  have HB4 := hide (show Below w.heap.size w w4 from ((HB3.out.alloc HB3.out.size _).alloc (by have := HB3.out.size; simp; omega) _).trans (hb.mono (by have := HB3.out.size; simp; omega)))
  have HR : Hid (Row3 (w3.heap.size + 1 + 1) 4 3 3 w4) := hide (by simpa using hR)
  clear hb hR hF hz k0 k1
  go_wp2_with fail
  refine (ST _ (HT.out.keep HB4.out)).out.mono ?_
  rintro e w5 ⟨rfl, hb⟩
  have q0 := (hb.cell (p := ⟨w3.heap.size, 0, none⟩) (by simp; omega)).trans q0
  have q1 := (hb.cell (p := ⟨w3.heap.size, 1, none⟩) (by simp; omega)).trans q1
  have HR5 := hide (HR.out.keep hb hz')
  have z5 : w4.heap.size ≤ w5.heap.size := hb.size
  have HB5 := hide (HB4.out.trans (hb.mono HB4.out.size))
  clear hb
  go_wp2_with fail
  refine (same3 (w3.heap.size + 1 + 1) w5.heap.size 4 3 3 _ ?_ ?_).mono ?_
  · exact HR5.out.keep ((Below.refl _ _).alloc (Nat.le_refl _) _) (by omega)
  · refine ⟨?_, ?_, ?_⟩ <;> simp [go_sem]
  rintro e w6 ⟨rfl, n, rfl⟩
  go_wp2_with fail
  go_ret
  exact ⟨rfl, below_draw (HB5.out.alloc HB5.out.size _) n⟩
end Go.Proofs.YtmdgjgeblplhpaaDoor
