/-
  FractionRounding where a rounding is refused.
-/
import Derived.Test.YtmdgjgeblplhpaaDoorFrC
import Derived.Test.YtmdgjgeblplhpaaDoorFr16
import Derived.Deep.DeepCutAuto
import Derived.Deep.CutBlock
namespace Go.Proofs.YtmdgjgeblplhpaaDoor
open Go.RowKit
set_option linter.unusedVariables false

theorem of_tuple (n d x m : Int) (w : World) (hn : I64 n) (hd : I64 d) : Calls Tryd.prog 24 #[.agg #[.int .i64 n, .int .i64 d], .int .i64 x, .int .i64 m] w fun e w' =>
    e = .returned (.tuple #[.int .i64 (ofV n d x m), .agg #[.int .i64 (ofN n d x m), .int .i64 (ofD n d x m)], .int .i64 (ofE n d x m)]) ∧ Below w.heap.size w w' := of_any n d x m w hn hd

set_option maxHeartbeats 8000000 in
set_option maxRecDepth 20000 in
theorem rd_no0 (n d x : Int) (w : World) (T : Tabs w) (hn : I64 n) (hd : I64 d) (hx : I64 x) (h0 : ofE n d x 0 ≠ 0) :
    Calls Tryd.prog 9 #[.agg #[.int .i64 n, .int .i64 d], .int .i64 x] w fun e w' => e = .returned (.bool true) ∧ Below w.heap.size w w' := by
  have HT := hide T
  clear T
  have O0 := fun w => hide (of_tuple n d x 0 w hn hd)
  have O1 := fun w => hide (of_tuple n d x 1 w hn hd)
  have O2 := fun w => hide (of_tuple n d x 2 w hn hd)
  have O3 := fun w => hide (of_tuple n d x 3 w hn hd)
  have K := fun w T => hide (known_any w T)
  clear hn hd
  generalize ofV n d x 0 = V0 at *
  generalize ofN n d x 0 = N0 at *
  generalize ofD n d x 0 = D0 at *
  generalize ofV n d x 1 = V1 at *
  generalize ofN n d x 1 = N1 at *
  generalize ofD n d x 1 = D1 at *
  generalize ofV n d x 2 = V2 at *
  generalize ofN n d x 2 = N2 at *
  generalize ofD n d x 2 = D2 at *
  generalize ofV n d x 3 = V3 at *
  generalize ofN n d x 3 = N3 at *
  generalize ofD n d x 3 = D3 at *
  generalize ofE n d x 0 = X at *
  have e1 : (X == 0) = false := by simpa using h0
  have e2 : (X != 0) = true := by simpa using h0
  clear h0
  generalize ofE n d x 1 = X1 at *
  generalize ofE n d x 2 = X2 at *
  generalize ofE n d x 3 = X3 at *
  go_enter Tryd.func9, Tryd.ntmps9
  go_wp2_with fail
  refine (from_any _ _ _).mono ?_
  rintro e w0 ⟨rfl, hb⟩
  have z0 : w.heap.size + 1 ≤ w0.heap.size := by have := hb.size; simp at this; omega
  have b0 : ∀ o, (w0.alloc o).cell? ⟨w.heap.size, 0, none⟩ = some (Value.int .i64 n) := fun o => (((Below.refl w0.heap.size w0).alloc (Nat.le_refl _) o).cell (p := ⟨w.heap.size, 0, none⟩) (by simp; omega)).trans ((hb.cell (p := ⟨w.heap.size, 0, none⟩) (by simp)).trans (show _ = some (Value.int .i64 n) by simp [go_sem]))
  have b1 : ∀ o, (w0.alloc o).cell? ⟨w.heap.size, 1, none⟩ = some (Value.int .i64 d) := fun o => (((Below.refl w0.heap.size w0).alloc (Nat.le_refl _) o).cell (p := ⟨w.heap.size, 1, none⟩) (by simp; omega)).trans ((hb.cell (p := ⟨w.heap.size, 1, none⟩) (by simp)).trans (show _ = some (Value.int .i64 d) by simp [go_sem]))
  have HB0 := hide (show Below w.heap.size w w0 from ((Below.refl w.heap.size w).alloc (Nat.le_refl _) _).trans (hb.mono (by simp)))
  clear hb
  go_wp2_with fail
  refine (O0 _).out.mono ?_
  rintro e w1 ⟨rfl, hb⟩
  have z1 : w0.heap.size + 1 ≤ w1.heap.size := by have := hb.size; simp at this; omega
  have b0 : ∀ o, (w1.alloc o).cell? ⟨w.heap.size, 0, none⟩ = some (Value.int .i64 n) := fun o => (((Below.refl w1.heap.size w1).alloc (Nat.le_refl _) o).cell (p := ⟨w.heap.size, 0, none⟩) (by simp; omega)).trans ((hb.cell (p := ⟨w.heap.size, 0, none⟩) (by simp; omega)).trans (b0 _))
  have b1 : ∀ o, (w1.alloc o).cell? ⟨w.heap.size, 1, none⟩ = some (Value.int .i64 d) := fun o => (((Below.refl w1.heap.size w1).alloc (Nat.le_refl _) o).cell (p := ⟨w.heap.size, 1, none⟩) (by simp; omega)).trans ((hb.cell (p := ⟨w.heap.size, 1, none⟩) (by simp; omega)).trans (b1 _))
  have g0 : ∀ o, (w1.alloc o).cell? ⟨w0.heap.size, 0, none⟩ = some (Value.int .i64 n) := fun o => (((Below.refl w1.heap.size w1).alloc (Nat.le_refl _) o).cell (p := ⟨w0.heap.size, 0, none⟩) (by simp; omega)).trans ((hb.cell (p := ⟨w0.heap.size, 0, none⟩) (by simp)).trans (show _ = some (Value.int .i64 n) by simp [go_sem]))
  have g1 : ∀ o, (w1.alloc o).cell? ⟨w0.heap.size, 1, none⟩ = some (Value.int .i64 d) := fun o => (((Below.refl w1.heap.size w1).alloc (Nat.le_refl _) o).cell (p := ⟨w0.heap.size, 1, none⟩) (by simp; omega)).trans ((hb.cell (p := ⟨w0.heap.size, 1, none⟩) (by simp)).trans (show _ = some (Value.int .i64 d) by simp [go_sem]))
  have HB1 := hide (show Below w.heap.size w w1 from (HB0.out.alloc HB0.out.size _).trans (hb.mono (by have := HB0.out.size; simp; omega)))
  clear hb
  go_wp2_with fail
  refine (O1 _).out.mono ?_
  rintro e w2 ⟨rfl, hb⟩
  have z2 : w1.heap.size + 1 ≤ w2.heap.size := by have := hb.size; simp at this; omega
  have b0 : ∀ o, (w2.alloc o).cell? ⟨w.heap.size, 0, none⟩ = some (Value.int .i64 n) := fun o => (((Below.refl w2.heap.size w2).alloc (Nat.le_refl _) o).cell (p := ⟨w.heap.size, 0, none⟩) (by simp; omega)).trans ((hb.cell (p := ⟨w.heap.size, 0, none⟩) (by simp; omega)).trans (b0 _))
  have b1 : ∀ o, (w2.alloc o).cell? ⟨w.heap.size, 1, none⟩ = some (Value.int .i64 d) := fun o => (((Below.refl w2.heap.size w2).alloc (Nat.le_refl _) o).cell (p := ⟨w.heap.size, 1, none⟩) (by simp; omega)).trans ((hb.cell (p := ⟨w.heap.size, 1, none⟩) (by simp; omega)).trans (b1 _))
  have g0 : ∀ o, (w2.alloc o).cell? ⟨w0.heap.size, 0, none⟩ = some (Value.int .i64 n) := fun o => (((Below.refl w2.heap.size w2).alloc (Nat.le_refl _) o).cell (p := ⟨w0.heap.size, 0, none⟩) (by simp; omega)).trans ((hb.cell (p := ⟨w0.heap.size, 0, none⟩) (by simp; omega)).trans (g0 _))
  have g1 : ∀ o, (w2.alloc o).cell? ⟨w0.heap.size, 1, none⟩ = some (Value.int .i64 d) := fun o => (((Below.refl w2.heap.size w2).alloc (Nat.le_refl _) o).cell (p := ⟨w0.heap.size, 1, none⟩) (by simp; omega)).trans ((hb.cell (p := ⟨w0.heap.size, 1, none⟩) (by simp; omega)).trans (g1 _))
  have r0 : ∀ o, (w2.alloc o).cell? ⟨w1.heap.size, 0, none⟩ = some (Value.int .i64 N0) := fun o => (((Below.refl w2.heap.size w2).alloc (Nat.le_refl _) o).cell (p := ⟨w1.heap.size, 0, none⟩) (by simp; omega)).trans ((hb.cell (p := ⟨w1.heap.size, 0, none⟩) (by simp)).trans (show _ = some (Value.int .i64 N0) by simp [go_sem]))
  have s0 : ∀ o, (w2.alloc o).cell? ⟨w1.heap.size, 1, none⟩ = some (Value.int .i64 D0) := fun o => (((Below.refl w2.heap.size w2).alloc (Nat.le_refl _) o).cell (p := ⟨w1.heap.size, 1, none⟩) (by simp; omega)).trans ((hb.cell (p := ⟨w1.heap.size, 1, none⟩) (by simp)).trans (show _ = some (Value.int .i64 D0) by simp [go_sem]))
  have HB2 := hide (show Below w.heap.size w w2 from (HB1.out.alloc HB1.out.size _).trans (hb.mono (by have := HB1.out.size; simp; omega)))
  clear hb
  go_wp2_with fail
  refine (O2 _).out.mono ?_
  rintro e w3 ⟨rfl, hb⟩
  have z3 : w2.heap.size + 1 ≤ w3.heap.size := by have := hb.size; simp at this; omega
  have b0 : ∀ o, (w3.alloc o).cell? ⟨w.heap.size, 0, none⟩ = some (Value.int .i64 n) := fun o => (((Below.refl w3.heap.size w3).alloc (Nat.le_refl _) o).cell (p := ⟨w.heap.size, 0, none⟩) (by simp; omega)).trans ((hb.cell (p := ⟨w.heap.size, 0, none⟩) (by simp; omega)).trans (b0 _))
  have b1 : ∀ o, (w3.alloc o).cell? ⟨w.heap.size, 1, none⟩ = some (Value.int .i64 d) := fun o => (((Below.refl w3.heap.size w3).alloc (Nat.le_refl _) o).cell (p := ⟨w.heap.size, 1, none⟩) (by simp; omega)).trans ((hb.cell (p := ⟨w.heap.size, 1, none⟩) (by simp; omega)).trans (b1 _))
  have g0 : ∀ o, (w3.alloc o).cell? ⟨w0.heap.size, 0, none⟩ = some (Value.int .i64 n) := fun o => (((Below.refl w3.heap.size w3).alloc (Nat.le_refl _) o).cell (p := ⟨w0.heap.size, 0, none⟩) (by simp; omega)).trans ((hb.cell (p := ⟨w0.heap.size, 0, none⟩) (by simp; omega)).trans (g0 _))
  have g1 : ∀ o, (w3.alloc o).cell? ⟨w0.heap.size, 1, none⟩ = some (Value.int .i64 d) := fun o => (((Below.refl w3.heap.size w3).alloc (Nat.le_refl _) o).cell (p := ⟨w0.heap.size, 1, none⟩) (by simp; omega)).trans ((hb.cell (p := ⟨w0.heap.size, 1, none⟩) (by simp; omega)).trans (g1 _))
  have r0 : ∀ o, (w3.alloc o).cell? ⟨w1.heap.size, 0, none⟩ = some (Value.int .i64 N0) := fun o => (((Below.refl w3.heap.size w3).alloc (Nat.le_refl _) o).cell (p := ⟨w1.heap.size, 0, none⟩) (by simp; omega)).trans ((hb.cell (p := ⟨w1.heap.size, 0, none⟩) (by simp; omega)).trans (r0 _))
  have s0 : ∀ o, (w3.alloc o).cell? ⟨w1.heap.size, 1, none⟩ = some (Value.int .i64 D0) := fun o => (((Below.refl w3.heap.size w3).alloc (Nat.le_refl _) o).cell (p := ⟨w1.heap.size, 1, none⟩) (by simp; omega)).trans ((hb.cell (p := ⟨w1.heap.size, 1, none⟩) (by simp; omega)).trans (s0 _))
  have r1 : ∀ o, (w3.alloc o).cell? ⟨w2.heap.size, 0, none⟩ = some (Value.int .i64 N1) := fun o => (((Below.refl w3.heap.size w3).alloc (Nat.le_refl _) o).cell (p := ⟨w2.heap.size, 0, none⟩) (by simp; omega)).trans ((hb.cell (p := ⟨w2.heap.size, 0, none⟩) (by simp)).trans (show _ = some (Value.int .i64 N1) by simp [go_sem]))
  have s1 : ∀ o, (w3.alloc o).cell? ⟨w2.heap.size, 1, none⟩ = some (Value.int .i64 D1) := fun o => (((Below.refl w3.heap.size w3).alloc (Nat.le_refl _) o).cell (p := ⟨w2.heap.size, 1, none⟩) (by simp; omega)).trans ((hb.cell (p := ⟨w2.heap.size, 1, none⟩) (by simp)).trans (show _ = some (Value.int .i64 D1) by simp [go_sem]))
  have HB3 := hide (show Below w.heap.size w w3 from (HB2.out.alloc HB2.out.size _).trans (hb.mono (by have := HB2.out.size; simp; omega)))
  clear hb
  go_wp2_with fail
  refine (O3 _).out.mono ?_
  rintro e w4 ⟨rfl, hb⟩
  have z4 : w3.heap.size + 1 ≤ w4.heap.size := by have := hb.size; simp at this; omega
  have b0 : ∀ o, (w4.alloc o).cell? ⟨w.heap.size, 0, none⟩ = some (Value.int .i64 n) := fun o => (((Below.refl w4.heap.size w4).alloc (Nat.le_refl _) o).cell (p := ⟨w.heap.size, 0, none⟩) (by simp; omega)).trans ((hb.cell (p := ⟨w.heap.size, 0, none⟩) (by simp; omega)).trans (b0 _))
  have b1 : ∀ o, (w4.alloc o).cell? ⟨w.heap.size, 1, none⟩ = some (Value.int .i64 d) := fun o => (((Below.refl w4.heap.size w4).alloc (Nat.le_refl _) o).cell (p := ⟨w.heap.size, 1, none⟩) (by simp; omega)).trans ((hb.cell (p := ⟨w.heap.size, 1, none⟩) (by simp; omega)).trans (b1 _))
  have g0 : ∀ o, (w4.alloc o).cell? ⟨w0.heap.size, 0, none⟩ = some (Value.int .i64 n) := fun o => (((Below.refl w4.heap.size w4).alloc (Nat.le_refl _) o).cell (p := ⟨w0.heap.size, 0, none⟩) (by simp; omega)).trans ((hb.cell (p := ⟨w0.heap.size, 0, none⟩) (by simp; omega)).trans (g0 _))
  have g1 : ∀ o, (w4.alloc o).cell? ⟨w0.heap.size, 1, none⟩ = some (Value.int .i64 d) := fun o => (((Below.refl w4.heap.size w4).alloc (Nat.le_refl _) o).cell (p := ⟨w0.heap.size, 1, none⟩) (by simp; omega)).trans ((hb.cell (p := ⟨w0.heap.size, 1, none⟩) (by simp; omega)).trans (g1 _))
  have r0 : ∀ o, (w4.alloc o).cell? ⟨w1.heap.size, 0, none⟩ = some (Value.int .i64 N0) := fun o => (((Below.refl w4.heap.size w4).alloc (Nat.le_refl _) o).cell (p := ⟨w1.heap.size, 0, none⟩) (by simp; omega)).trans ((hb.cell (p := ⟨w1.heap.size, 0, none⟩) (by simp; omega)).trans (r0 _))
  have s0 : ∀ o, (w4.alloc o).cell? ⟨w1.heap.size, 1, none⟩ = some (Value.int .i64 D0) := fun o => (((Below.refl w4.heap.size w4).alloc (Nat.le_refl _) o).cell (p := ⟨w1.heap.size, 1, none⟩) (by simp; omega)).trans ((hb.cell (p := ⟨w1.heap.size, 1, none⟩) (by simp; omega)).trans (s0 _))
  have r1 : ∀ o, (w4.alloc o).cell? ⟨w2.heap.size, 0, none⟩ = some (Value.int .i64 N1) := fun o => (((Below.refl w4.heap.size w4).alloc (Nat.le_refl _) o).cell (p := ⟨w2.heap.size, 0, none⟩) (by simp; omega)).trans ((hb.cell (p := ⟨w2.heap.size, 0, none⟩) (by simp; omega)).trans (r1 _))
  have s1 : ∀ o, (w4.alloc o).cell? ⟨w2.heap.size, 1, none⟩ = some (Value.int .i64 D1) := fun o => (((Below.refl w4.heap.size w4).alloc (Nat.le_refl _) o).cell (p := ⟨w2.heap.size, 1, none⟩) (by simp; omega)).trans ((hb.cell (p := ⟨w2.heap.size, 1, none⟩) (by simp; omega)).trans (s1 _))
  have r2 : ∀ o, (w4.alloc o).cell? ⟨w3.heap.size, 0, none⟩ = some (Value.int .i64 N2) := fun o => (((Below.refl w4.heap.size w4).alloc (Nat.le_refl _) o).cell (p := ⟨w3.heap.size, 0, none⟩) (by simp; omega)).trans ((hb.cell (p := ⟨w3.heap.size, 0, none⟩) (by simp)).trans (show _ = some (Value.int .i64 N2) by simp [go_sem]))
  have s2 : ∀ o, (w4.alloc o).cell? ⟨w3.heap.size, 1, none⟩ = some (Value.int .i64 D2) := fun o => (((Below.refl w4.heap.size w4).alloc (Nat.le_refl _) o).cell (p := ⟨w3.heap.size, 1, none⟩) (by simp; omega)).trans ((hb.cell (p := ⟨w3.heap.size, 1, none⟩) (by simp)).trans (show _ = some (Value.int .i64 D2) by simp [go_sem]))
  have HB4 := hide (show Below w.heap.size w w4 from (HB3.out.alloc HB3.out.size _).trans (hb.mono (by have := HB3.out.size; simp; omega)))
  clear hb
  go_wp2_with fail
  refine (K _ (HT.out.keep (HB4.out.alloc HB4.out.size _))).out.mono ?_
  rintro e w5 ⟨rfl, hb⟩
  have HB5 := hide ((HB4.out.alloc HB4.out.size _).trans (hb.mono (by have := HB4.out.size; simp; omega)))
  clear hb
  go_wp2_with fail
  go_ret
  exact ⟨rfl, HB5.out⟩

set_option maxHeartbeats 8000000 in
set_option maxRecDepth 20000 in
theorem rd_no1 (n d x : Int) (w : World) (T : Tabs w) (hn : I64 n) (hd : I64 d) (hx : I64 x) (h0 : ofE n d x 0 = 0) (h1 : ofE n d x 1 ≠ 0) :
    Calls Tryd.prog 9 #[.agg #[.int .i64 n, .int .i64 d], .int .i64 x] w fun e w' => e = .returned (.bool true) ∧ Below w.heap.size w w' := by
  have HT := hide T
  clear T
  have O0 := fun w => hide (of_tuple n d x 0 w hn hd)
  have O1 := fun w => hide (of_tuple n d x 1 w hn hd)
  have O2 := fun w => hide (of_tuple n d x 2 w hn hd)
  have O3 := fun w => hide (of_tuple n d x 3 w hn hd)
  have K := fun w T => hide (known_any w T)
  clear hn hd
  rw [h0] at O0
  clear h0
  generalize ofV n d x 0 = V0 at *
  generalize ofN n d x 0 = N0 at *
  generalize ofD n d x 0 = D0 at *
  generalize ofV n d x 1 = V1 at *
  generalize ofN n d x 1 = N1 at *
  generalize ofD n d x 1 = D1 at *
  generalize ofV n d x 2 = V2 at *
  generalize ofN n d x 2 = N2 at *
  generalize ofD n d x 2 = D2 at *
  generalize ofV n d x 3 = V3 at *
  generalize ofN n d x 3 = N3 at *
  generalize ofD n d x 3 = D3 at *
  generalize ofE n d x 1 = X at *
  have e1 : (X == 0) = false := by simpa using h1
  have e2 : (X != 0) = true := by simpa using h1
  clear h1
  generalize ofE n d x 2 = X2 at *
  generalize ofE n d x 3 = X3 at *
  go_enter Tryd.func9, Tryd.ntmps9
  go_wp2_with fail
  refine (from_any _ _ _).mono ?_
  rintro e w0 ⟨rfl, hb⟩
  have z0 : w.heap.size + 1 ≤ w0.heap.size := by have := hb.size; simp at this; omega
  have b0 : ∀ o, (w0.alloc o).cell? ⟨w.heap.size, 0, none⟩ = some (Value.int .i64 n) := fun o => (((Below.refl w0.heap.size w0).alloc (Nat.le_refl _) o).cell (p := ⟨w.heap.size, 0, none⟩) (by simp; omega)).trans ((hb.cell (p := ⟨w.heap.size, 0, none⟩) (by simp)).trans (show _ = some (Value.int .i64 n) by simp [go_sem]))
  have b1 : ∀ o, (w0.alloc o).cell? ⟨w.heap.size, 1, none⟩ = some (Value.int .i64 d) := fun o => (((Below.refl w0.heap.size w0).alloc (Nat.le_refl _) o).cell (p := ⟨w.heap.size, 1, none⟩) (by simp; omega)).trans ((hb.cell (p := ⟨w.heap.size, 1, none⟩) (by simp)).trans (show _ = some (Value.int .i64 d) by simp [go_sem]))
  have HB0 := hide (show Below w.heap.size w w0 from ((Below.refl w.heap.size w).alloc (Nat.le_refl _) _).trans (hb.mono (by simp)))
  clear hb
  go_wp2_with fail
  refine (O0 _).out.mono ?_
  rintro e w1 ⟨rfl, hb⟩
  have z1 : w0.heap.size + 1 ≤ w1.heap.size := by have := hb.size; simp at this; omega
  have b0 : ∀ o, (w1.alloc o).cell? ⟨w.heap.size, 0, none⟩ = some (Value.int .i64 n) := fun o => (((Below.refl w1.heap.size w1).alloc (Nat.le_refl _) o).cell (p := ⟨w.heap.size, 0, none⟩) (by simp; omega)).trans ((hb.cell (p := ⟨w.heap.size, 0, none⟩) (by simp; omega)).trans (b0 _))
  have b1 : ∀ o, (w1.alloc o).cell? ⟨w.heap.size, 1, none⟩ = some (Value.int .i64 d) := fun o => (((Below.refl w1.heap.size w1).alloc (Nat.le_refl _) o).cell (p := ⟨w.heap.size, 1, none⟩) (by simp; omega)).trans ((hb.cell (p := ⟨w.heap.size, 1, none⟩) (by simp; omega)).trans (b1 _))
  have g0 : ∀ o, (w1.alloc o).cell? ⟨w0.heap.size, 0, none⟩ = some (Value.int .i64 n) := fun o => (((Below.refl w1.heap.size w1).alloc (Nat.le_refl _) o).cell (p := ⟨w0.heap.size, 0, none⟩) (by simp; omega)).trans ((hb.cell (p := ⟨w0.heap.size, 0, none⟩) (by simp)).trans (show _ = some (Value.int .i64 n) by simp [go_sem]))
  have g1 : ∀ o, (w1.alloc o).cell? ⟨w0.heap.size, 1, none⟩ = some (Value.int .i64 d) := fun o => (((Below.refl w1.heap.size w1).alloc (Nat.le_refl _) o).cell (p := ⟨w0.heap.size, 1, none⟩) (by simp; omega)).trans ((hb.cell (p := ⟨w0.heap.size, 1, none⟩) (by simp)).trans (show _ = some (Value.int .i64 d) by simp [go_sem]))
  have HB1 := hide (show Below w.heap.size w w1 from (HB0.out.alloc HB0.out.size _).trans (hb.mono (by have := HB0.out.size; simp; omega)))
  clear hb
  go_wp2_with fail
  refine (O1 _).out.mono ?_
  rintro e w2 ⟨rfl, hb⟩
  have z2 : w1.heap.size + 1 ≤ w2.heap.size := by have := hb.size; simp at this; omega
  have b0 : ∀ o, (w2.alloc o).cell? ⟨w.heap.size, 0, none⟩ = some (Value.int .i64 n) := fun o => (((Below.refl w2.heap.size w2).alloc (Nat.le_refl _) o).cell (p := ⟨w.heap.size, 0, none⟩) (by simp; omega)).trans ((hb.cell (p := ⟨w.heap.size, 0, none⟩) (by simp; omega)).trans (b0 _))
  have b1 : ∀ o, (w2.alloc o).cell? ⟨w.heap.size, 1, none⟩ = some (Value.int .i64 d) := fun o => (((Below.refl w2.heap.size w2).alloc (Nat.le_refl _) o).cell (p := ⟨w.heap.size, 1, none⟩) (by simp; omega)).trans ((hb.cell (p := ⟨w.heap.size, 1, none⟩) (by simp; omega)).trans (b1 _))
  have g0 : ∀ o, (w2.alloc o).cell? ⟨w0.heap.size, 0, none⟩ = some (Value.int .i64 n) := fun o => (((Below.refl w2.heap.size w2).alloc (Nat.le_refl _) o).cell (p := ⟨w0.heap.size, 0, none⟩) (by simp; omega)).trans ((hb.cell (p := ⟨w0.heap.size, 0, none⟩) (by simp; omega)).trans (g0 _))
  have g1 : ∀ o, (w2.alloc o).cell? ⟨w0.heap.size, 1, none⟩ = some (Value.int .i64 d) := fun o => (((Below.refl w2.heap.size w2).alloc (Nat.le_refl _) o).cell (p := ⟨w0.heap.size, 1, none⟩) (by simp; omega)).trans ((hb.cell (p := ⟨w0.heap.size, 1, none⟩) (by simp; omega)).trans (g1 _))
  have r0 : ∀ o, (w2.alloc o).cell? ⟨w1.heap.size, 0, none⟩ = some (Value.int .i64 N0) := fun o => (((Below.refl w2.heap.size w2).alloc (Nat.le_refl _) o).cell (p := ⟨w1.heap.size, 0, none⟩) (by simp; omega)).trans ((hb.cell (p := ⟨w1.heap.size, 0, none⟩) (by simp)).trans (show _ = some (Value.int .i64 N0) by simp [go_sem]))
  have s0 : ∀ o, (w2.alloc o).cell? ⟨w1.heap.size, 1, none⟩ = some (Value.int .i64 D0) := fun o => (((Below.refl w2.heap.size w2).alloc (Nat.le_refl _) o).cell (p := ⟨w1.heap.size, 1, none⟩) (by simp; omega)).trans ((hb.cell (p := ⟨w1.heap.size, 1, none⟩) (by simp)).trans (show _ = some (Value.int .i64 D0) by simp [go_sem]))
  have HB2 := hide (show Below w.heap.size w w2 from (HB1.out.alloc HB1.out.size _).trans (hb.mono (by have := HB1.out.size; simp; omega)))
  clear hb
  go_wp2_with fail
  refine (O2 _).out.mono ?_
  rintro e w3 ⟨rfl, hb⟩
  have z3 : w2.heap.size + 1 ≤ w3.heap.size := by have := hb.size; simp at this; omega
  have b0 : ∀ o, (w3.alloc o).cell? ⟨w.heap.size, 0, none⟩ = some (Value.int .i64 n) := fun o => (((Below.refl w3.heap.size w3).alloc (Nat.le_refl _) o).cell (p := ⟨w.heap.size, 0, none⟩) (by simp; omega)).trans ((hb.cell (p := ⟨w.heap.size, 0, none⟩) (by simp; omega)).trans (b0 _))
  have b1 : ∀ o, (w3.alloc o).cell? ⟨w.heap.size, 1, none⟩ = some (Value.int .i64 d) := fun o => (((Below.refl w3.heap.size w3).alloc (Nat.le_refl _) o).cell (p := ⟨w.heap.size, 1, none⟩) (by simp; omega)).trans ((hb.cell (p := ⟨w.heap.size, 1, none⟩) (by simp; omega)).trans (b1 _))
  have g0 : ∀ o, (w3.alloc o).cell? ⟨w0.heap.size, 0, none⟩ = some (Value.int .i64 n) := fun o => (((Below.refl w3.heap.size w3).alloc (Nat.le_refl _) o).cell (p := ⟨w0.heap.size, 0, none⟩) (by simp; omega)).trans ((hb.cell (p := ⟨w0.heap.size, 0, none⟩) (by simp; omega)).trans (g0 _))
  have g1 : ∀ o, (w3.alloc o).cell? ⟨w0.heap.size, 1, none⟩ = some (Value.int .i64 d) := fun o => (((Below.refl w3.heap.size w3).alloc (Nat.le_refl _) o).cell (p := ⟨w0.heap.size, 1, none⟩) (by simp; omega)).trans ((hb.cell (p := ⟨w0.heap.size, 1, none⟩) (by simp; omega)).trans (g1 _))
  have r0 : ∀ o, (w3.alloc o).cell? ⟨w1.heap.size, 0, none⟩ = some (Value.int .i64 N0) := fun o => (((Below.refl w3.heap.size w3).alloc (Nat.le_refl _) o).cell (p := ⟨w1.heap.size, 0, none⟩) (by simp; omega)).trans ((hb.cell (p := ⟨w1.heap.size, 0, none⟩) (by simp; omega)).trans (r0 _))
  have s0 : ∀ o, (w3.alloc o).cell? ⟨w1.heap.size, 1, none⟩ = some (Value.int .i64 D0) := fun o => (((Below.refl w3.heap.size w3).alloc (Nat.le_refl _) o).cell (p := ⟨w1.heap.size, 1, none⟩) (by simp; omega)).trans ((hb.cell (p := ⟨w1.heap.size, 1, none⟩) (by simp; omega)).trans (s0 _))
  have r1 : ∀ o, (w3.alloc o).cell? ⟨w2.heap.size, 0, none⟩ = some (Value.int .i64 N1) := fun o => (((Below.refl w3.heap.size w3).alloc (Nat.le_refl _) o).cell (p := ⟨w2.heap.size, 0, none⟩) (by simp; omega)).trans ((hb.cell (p := ⟨w2.heap.size, 0, none⟩) (by simp)).trans (show _ = some (Value.int .i64 N1) by simp [go_sem]))
  have s1 : ∀ o, (w3.alloc o).cell? ⟨w2.heap.size, 1, none⟩ = some (Value.int .i64 D1) := fun o => (((Below.refl w3.heap.size w3).alloc (Nat.le_refl _) o).cell (p := ⟨w2.heap.size, 1, none⟩) (by simp; omega)).trans ((hb.cell (p := ⟨w2.heap.size, 1, none⟩) (by simp)).trans (show _ = some (Value.int .i64 D1) by simp [go_sem]))
  have HB3 := hide (show Below w.heap.size w w3 from (HB2.out.alloc HB2.out.size _).trans (hb.mono (by have := HB2.out.size; simp; omega)))
  clear hb
  go_wp2_with fail
  refine (O3 _).out.mono ?_
  rintro e w4 ⟨rfl, hb⟩
  have z4 : w3.heap.size + 1 ≤ w4.heap.size := by have := hb.size; simp at this; omega
  have b0 : ∀ o, (w4.alloc o).cell? ⟨w.heap.size, 0, none⟩ = some (Value.int .i64 n) := fun o => (((Below.refl w4.heap.size w4).alloc (Nat.le_refl _) o).cell (p := ⟨w.heap.size, 0, none⟩) (by simp; omega)).trans ((hb.cell (p := ⟨w.heap.size, 0, none⟩) (by simp; omega)).trans (b0 _))
  have b1 : ∀ o, (w4.alloc o).cell? ⟨w.heap.size, 1, none⟩ = some (Value.int .i64 d) := fun o => (((Below.refl w4.heap.size w4).alloc (Nat.le_refl _) o).cell (p := ⟨w.heap.size, 1, none⟩) (by simp; omega)).trans ((hb.cell (p := ⟨w.heap.size, 1, none⟩) (by simp; omega)).trans (b1 _))
  have g0 : ∀ o, (w4.alloc o).cell? ⟨w0.heap.size, 0, none⟩ = some (Value.int .i64 n) := fun o => (((Below.refl w4.heap.size w4).alloc (Nat.le_refl _) o).cell (p := ⟨w0.heap.size, 0, none⟩) (by simp; omega)).trans ((hb.cell (p := ⟨w0.heap.size, 0, none⟩) (by simp; omega)).trans (g0 _))
  have g1 : ∀ o, (w4.alloc o).cell? ⟨w0.heap.size, 1, none⟩ = some (Value.int .i64 d) := fun o => (((Below.refl w4.heap.size w4).alloc (Nat.le_refl _) o).cell (p := ⟨w0.heap.size, 1, none⟩) (by simp; omega)).trans ((hb.cell (p := ⟨w0.heap.size, 1, none⟩) (by simp; omega)).trans (g1 _))
  have r0 : ∀ o, (w4.alloc o).cell? ⟨w1.heap.size, 0, none⟩ = some (Value.int .i64 N0) := fun o => (((Below.refl w4.heap.size w4).alloc (Nat.le_refl _) o).cell (p := ⟨w1.heap.size, 0, none⟩) (by simp; omega)).trans ((hb.cell (p := ⟨w1.heap.size, 0, none⟩) (by simp; omega)).trans (r0 _))
  have s0 : ∀ o, (w4.alloc o).cell? ⟨w1.heap.size, 1, none⟩ = some (Value.int .i64 D0) := fun o => (((Below.refl w4.heap.size w4).alloc (Nat.le_refl _) o).cell (p := ⟨w1.heap.size, 1, none⟩) (by simp; omega)).trans ((hb.cell (p := ⟨w1.heap.size, 1, none⟩) (by simp; omega)).trans (s0 _))
  have r1 : ∀ o, (w4.alloc o).cell? ⟨w2.heap.size, 0, none⟩ = some (Value.int .i64 N1) := fun o => (((Below.refl w4.heap.size w4).alloc (Nat.le_refl _) o).cell (p := ⟨w2.heap.size, 0, none⟩) (by simp; omega)).trans ((hb.cell (p := ⟨w2.heap.size, 0, none⟩) (by simp; omega)).trans (r1 _))
  have s1 : ∀ o, (w4.alloc o).cell? ⟨w2.heap.size, 1, none⟩ = some (Value.int .i64 D1) := fun o => (((Below.refl w4.heap.size w4).alloc (Nat.le_refl _) o).cell (p := ⟨w2.heap.size, 1, none⟩) (by simp; omega)).trans ((hb.cell (p := ⟨w2.heap.size, 1, none⟩) (by simp; omega)).trans (s1 _))
  have r2 : ∀ o, (w4.alloc o).cell? ⟨w3.heap.size, 0, none⟩ = some (Value.int .i64 N2) := fun o => (((Below.refl w4.heap.size w4).alloc (Nat.le_refl _) o).cell (p := ⟨w3.heap.size, 0, none⟩) (by simp; omega)).trans ((hb.cell (p := ⟨w3.heap.size, 0, none⟩) (by simp)).trans (show _ = some (Value.int .i64 N2) by simp [go_sem]))
  have s2 : ∀ o, (w4.alloc o).cell? ⟨w3.heap.size, 1, none⟩ = some (Value.int .i64 D2) := fun o => (((Below.refl w4.heap.size w4).alloc (Nat.le_refl _) o).cell (p := ⟨w3.heap.size, 1, none⟩) (by simp; omega)).trans ((hb.cell (p := ⟨w3.heap.size, 1, none⟩) (by simp)).trans (show _ = some (Value.int .i64 D2) by simp [go_sem]))
  have HB4 := hide (show Below w.heap.size w w4 from (HB3.out.alloc HB3.out.size _).trans (hb.mono (by have := HB3.out.size; simp; omega)))
  clear hb
  go_wp2_with fail
  refine (K _ (HT.out.keep (HB4.out.alloc HB4.out.size _))).out.mono ?_
  rintro e w5 ⟨rfl, hb⟩
  have HB5 := hide ((HB4.out.alloc HB4.out.size _).trans (hb.mono (by have := HB4.out.size; simp; omega)))
  clear hb
  go_wp2_with fail
  go_ret
  exact ⟨rfl, HB5.out⟩

set_option maxHeartbeats 8000000 in
set_option maxRecDepth 20000 in
theorem rd_no2 (n d x : Int) (w : World) (T : Tabs w) (hn : I64 n) (hd : I64 d) (hx : I64 x) (h0 : ofE n d x 0 = 0) (h1 : ofE n d x 1 = 0) (h2 : ofE n d x 2 ≠ 0) :
    Calls Tryd.prog 9 #[.agg #[.int .i64 n, .int .i64 d], .int .i64 x] w fun e w' => e = .returned (.bool true) ∧ Below w.heap.size w w' := by
  have HT := hide T
  clear T
  have O0 := fun w => hide (of_tuple n d x 0 w hn hd)
  have O1 := fun w => hide (of_tuple n d x 1 w hn hd)
  have O2 := fun w => hide (of_tuple n d x 2 w hn hd)
  have O3 := fun w => hide (of_tuple n d x 3 w hn hd)
  have K := fun w T => hide (known_any w T)
  clear hn hd
  rw [h0] at O0
  clear h0
  rw [h1] at O1
  clear h1
  generalize ofV n d x 0 = V0 at *
  generalize ofN n d x 0 = N0 at *
  generalize ofD n d x 0 = D0 at *
  generalize ofV n d x 1 = V1 at *
  generalize ofN n d x 1 = N1 at *
  generalize ofD n d x 1 = D1 at *
  generalize ofV n d x 2 = V2 at *
  generalize ofN n d x 2 = N2 at *
  generalize ofD n d x 2 = D2 at *
  generalize ofV n d x 3 = V3 at *
  generalize ofN n d x 3 = N3 at *
  generalize ofD n d x 3 = D3 at *
  generalize ofE n d x 2 = X at *
  have e1 : (X == 0) = false := by simpa using h2
  have e2 : (X != 0) = true := by simpa using h2
  clear h2
  generalize ofE n d x 3 = X3 at *
  go_enter Tryd.func9, Tryd.ntmps9
  go_wp2_with fail
  refine (from_any _ _ _).mono ?_
  rintro e w0 ⟨rfl, hb⟩
  have z0 : w.heap.size + 1 ≤ w0.heap.size := by have := hb.size; simp at this; omega
  have b0 : ∀ o, (w0.alloc o).cell? ⟨w.heap.size, 0, none⟩ = some (Value.int .i64 n) := fun o => (((Below.refl w0.heap.size w0).alloc (Nat.le_refl _) o).cell (p := ⟨w.heap.size, 0, none⟩) (by simp; omega)).trans ((hb.cell (p := ⟨w.heap.size, 0, none⟩) (by simp)).trans (show _ = some (Value.int .i64 n) by simp [go_sem]))
  have b1 : ∀ o, (w0.alloc o).cell? ⟨w.heap.size, 1, none⟩ = some (Value.int .i64 d) := fun o => (((Below.refl w0.heap.size w0).alloc (Nat.le_refl _) o).cell (p := ⟨w.heap.size, 1, none⟩) (by simp; omega)).trans ((hb.cell (p := ⟨w.heap.size, 1, none⟩) (by simp)).trans (show _ = some (Value.int .i64 d) by simp [go_sem]))
  have HB0 := hide (show Below w.heap.size w w0 from ((Below.refl w.heap.size w).alloc (Nat.le_refl _) _).trans (hb.mono (by simp)))
  clear hb
  go_wp2_with fail
  refine (O0 _).out.mono ?_
  rintro e w1 ⟨rfl, hb⟩
  have z1 : w0.heap.size + 1 ≤ w1.heap.size := by have := hb.size; simp at this; omega
  have b0 : ∀ o, (w1.alloc o).cell? ⟨w.heap.size, 0, none⟩ = some (Value.int .i64 n) := fun o => (((Below.refl w1.heap.size w1).alloc (Nat.le_refl _) o).cell (p := ⟨w.heap.size, 0, none⟩) (by simp; omega)).trans ((hb.cell (p := ⟨w.heap.size, 0, none⟩) (by simp; omega)).trans (b0 _))
  have b1 : ∀ o, (w1.alloc o).cell? ⟨w.heap.size, 1, none⟩ = some (Value.int .i64 d) := fun o => (((Below.refl w1.heap.size w1).alloc (Nat.le_refl _) o).cell (p := ⟨w.heap.size, 1, none⟩) (by simp; omega)).trans ((hb.cell (p := ⟨w.heap.size, 1, none⟩) (by simp; omega)).trans (b1 _))
  have g0 : ∀ o, (w1.alloc o).cell? ⟨w0.heap.size, 0, none⟩ = some (Value.int .i64 n) := fun o => (((Below.refl w1.heap.size w1).alloc (Nat.le_refl _) o).cell (p := ⟨w0.heap.size, 0, none⟩) (by simp; omega)).trans ((hb.cell (p := ⟨w0.heap.size, 0, none⟩) (by simp)).trans (show _ = some (Value.int .i64 n) by simp [go_sem]))
  have g1 : ∀ o, (w1.alloc o).cell? ⟨w0.heap.size, 1, none⟩ = some (Value.int .i64 d) := fun o => (((Below.refl w1.heap.size w1).alloc (Nat.le_refl _) o).cell (p := ⟨w0.heap.size, 1, none⟩) (by simp; omega)).trans ((hb.cell (p := ⟨w0.heap.size, 1, none⟩) (by simp)).trans (show _ = some (Value.int .i64 d) by simp [go_sem]))
  have HB1 := hide (show Below w.heap.size w w1 from (HB0.out.alloc HB0.out.size _).trans (hb.mono (by have := HB0.out.size; simp; omega)))
  clear hb
  go_wp2_with fail
  refine (O1 _).out.mono ?_
  rintro e w2 ⟨rfl, hb⟩
  have z2 : w1.heap.size + 1 ≤ w2.heap.size := by have := hb.size; simp at this; omega
  have b0 : ∀ o, (w2.alloc o).cell? ⟨w.heap.size, 0, none⟩ = some (Value.int .i64 n) := fun o => (((Below.refl w2.heap.size w2).alloc (Nat.le_refl _) o).cell (p := ⟨w.heap.size, 0, none⟩) (by simp; omega)).trans ((hb.cell (p := ⟨w.heap.size, 0, none⟩) (by simp; omega)).trans (b0 _))
  have b1 : ∀ o, (w2.alloc o).cell? ⟨w.heap.size, 1, none⟩ = some (Value.int .i64 d) := fun o => (((Below.refl w2.heap.size w2).alloc (Nat.le_refl _) o).cell (p := ⟨w.heap.size, 1, none⟩) (by simp; omega)).trans ((hb.cell (p := ⟨w.heap.size, 1, none⟩) (by simp; omega)).trans (b1 _))
  have g0 : ∀ o, (w2.alloc o).cell? ⟨w0.heap.size, 0, none⟩ = some (Value.int .i64 n) := fun o => (((Below.refl w2.heap.size w2).alloc (Nat.le_refl _) o).cell (p := ⟨w0.heap.size, 0, none⟩) (by simp; omega)).trans ((hb.cell (p := ⟨w0.heap.size, 0, none⟩) (by simp; omega)).trans (g0 _))
  have g1 : ∀ o, (w2.alloc o).cell? ⟨w0.heap.size, 1, none⟩ = some (Value.int .i64 d) := fun o => (((Below.refl w2.heap.size w2).alloc (Nat.le_refl _) o).cell (p := ⟨w0.heap.size, 1, none⟩) (by simp; omega)).trans ((hb.cell (p := ⟨w0.heap.size, 1, none⟩) (by simp; omega)).trans (g1 _))
  have r0 : ∀ o, (w2.alloc o).cell? ⟨w1.heap.size, 0, none⟩ = some (Value.int .i64 N0) := fun o => (((Below.refl w2.heap.size w2).alloc (Nat.le_refl _) o).cell (p := ⟨w1.heap.size, 0, none⟩) (by simp; omega)).trans ((hb.cell (p := ⟨w1.heap.size, 0, none⟩) (by simp)).trans (show _ = some (Value.int .i64 N0) by simp [go_sem]))
  have s0 : ∀ o, (w2.alloc o).cell? ⟨w1.heap.size, 1, none⟩ = some (Value.int .i64 D0) := fun o => (((Below.refl w2.heap.size w2).alloc (Nat.le_refl _) o).cell (p := ⟨w1.heap.size, 1, none⟩) (by simp; omega)).trans ((hb.cell (p := ⟨w1.heap.size, 1, none⟩) (by simp)).trans (show _ = some (Value.int .i64 D0) by simp [go_sem]))
  have HB2 := hide (show Below w.heap.size w w2 from (HB1.out.alloc HB1.out.size _).trans (hb.mono (by have := HB1.out.size; simp; omega)))
  clear hb
  go_wp2_with fail
  refine (O2 _).out.mono ?_
  rintro e w3 ⟨rfl, hb⟩
  have z3 : w2.heap.size + 1 ≤ w3.heap.size := by have := hb.size; simp at this; omega
  have b0 : ∀ o, (w3.alloc o).cell? ⟨w.heap.size, 0, none⟩ = some (Value.int .i64 n) := fun o => (((Below.refl w3.heap.size w3).alloc (Nat.le_refl _) o).cell (p := ⟨w.heap.size, 0, none⟩) (by simp; omega)).trans ((hb.cell (p := ⟨w.heap.size, 0, none⟩) (by simp; omega)).trans (b0 _))
  have b1 : ∀ o, (w3.alloc o).cell? ⟨w.heap.size, 1, none⟩ = some (Value.int .i64 d) := fun o => (((Below.refl w3.heap.size w3).alloc (Nat.le_refl _) o).cell (p := ⟨w.heap.size, 1, none⟩) (by simp; omega)).trans ((hb.cell (p := ⟨w.heap.size, 1, none⟩) (by simp; omega)).trans (b1 _))
  have g0 : ∀ o, (w3.alloc o).cell? ⟨w0.heap.size, 0, none⟩ = some (Value.int .i64 n) := fun o => (((Below.refl w3.heap.size w3).alloc (Nat.le_refl _) o).cell (p := ⟨w0.heap.size, 0, none⟩) (by simp; omega)).trans ((hb.cell (p := ⟨w0.heap.size, 0, none⟩) (by simp; omega)).trans (g0 _))
  have g1 : ∀ o, (w3.alloc o).cell? ⟨w0.heap.size, 1, none⟩ = some (Value.int .i64 d) := fun o => (((Below.refl w3.heap.size w3).alloc (Nat.le_refl _) o).cell (p := ⟨w0.heap.size, 1, none⟩) (by simp; omega)).trans ((hb.cell (p := ⟨w0.heap.size, 1, none⟩) (by simp; omega)).trans (g1 _))
  have r0 : ∀ o, (w3.alloc o).cell? ⟨w1.heap.size, 0, none⟩ = some (Value.int .i64 N0) := fun o => (((Below.refl w3.heap.size w3).alloc (Nat.le_refl _) o).cell (p := ⟨w1.heap.size, 0, none⟩) (by simp; omega)).trans ((hb.cell (p := ⟨w1.heap.size, 0, none⟩) (by simp; omega)).trans (r0 _))
  have s0 : ∀ o, (w3.alloc o).cell? ⟨w1.heap.size, 1, none⟩ = some (Value.int .i64 D0) := fun o => (((Below.refl w3.heap.size w3).alloc (Nat.le_refl _) o).cell (p := ⟨w1.heap.size, 1, none⟩) (by simp; omega)).trans ((hb.cell (p := ⟨w1.heap.size, 1, none⟩) (by simp; omega)).trans (s0 _))
  have r1 : ∀ o, (w3.alloc o).cell? ⟨w2.heap.size, 0, none⟩ = some (Value.int .i64 N1) := fun o => (((Below.refl w3.heap.size w3).alloc (Nat.le_refl _) o).cell (p := ⟨w2.heap.size, 0, none⟩) (by simp; omega)).trans ((hb.cell (p := ⟨w2.heap.size, 0, none⟩) (by simp)).trans (show _ = some (Value.int .i64 N1) by simp [go_sem]))
  have s1 : ∀ o, (w3.alloc o).cell? ⟨w2.heap.size, 1, none⟩ = some (Value.int .i64 D1) := fun o => (((Below.refl w3.heap.size w3).alloc (Nat.le_refl _) o).cell (p := ⟨w2.heap.size, 1, none⟩) (by simp; omega)).trans ((hb.cell (p := ⟨w2.heap.size, 1, none⟩) (by simp)).trans (show _ = some (Value.int .i64 D1) by simp [go_sem]))
  have HB3 := hide (show Below w.heap.size w w3 from (HB2.out.alloc HB2.out.size _).trans (hb.mono (by have := HB2.out.size; simp; omega)))
  clear hb
  go_wp2_with fail
  refine (O3 _).out.mono ?_
  rintro e w4 ⟨rfl, hb⟩
  have z4 : w3.heap.size + 1 ≤ w4.heap.size := by have := hb.size; simp at this; omega
  have b0 : ∀ o, (w4.alloc o).cell? ⟨w.heap.size, 0, none⟩ = some (Value.int .i64 n) := fun o => (((Below.refl w4.heap.size w4).alloc (Nat.le_refl _) o).cell (p := ⟨w.heap.size, 0, none⟩) (by simp; omega)).trans ((hb.cell (p := ⟨w.heap.size, 0, none⟩) (by simp; omega)).trans (b0 _))
  have b1 : ∀ o, (w4.alloc o).cell? ⟨w.heap.size, 1, none⟩ = some (Value.int .i64 d) := fun o => (((Below.refl w4.heap.size w4).alloc (Nat.le_refl _) o).cell (p := ⟨w.heap.size, 1, none⟩) (by simp; omega)).trans ((hb.cell (p := ⟨w.heap.size, 1, none⟩) (by simp; omega)).trans (b1 _))
  have g0 : ∀ o, (w4.alloc o).cell? ⟨w0.heap.size, 0, none⟩ = some (Value.int .i64 n) := fun o => (((Below.refl w4.heap.size w4).alloc (Nat.le_refl _) o).cell (p := ⟨w0.heap.size, 0, none⟩) (by simp; omega)).trans ((hb.cell (p := ⟨w0.heap.size, 0, none⟩) (by simp; omega)).trans (g0 _))
  have g1 : ∀ o, (w4.alloc o).cell? ⟨w0.heap.size, 1, none⟩ = some (Value.int .i64 d) := fun o => (((Below.refl w4.heap.size w4).alloc (Nat.le_refl _) o).cell (p := ⟨w0.heap.size, 1, none⟩) (by simp; omega)).trans ((hb.cell (p := ⟨w0.heap.size, 1, none⟩) (by simp; omega)).trans (g1 _))
  have r0 : ∀ o, (w4.alloc o).cell? ⟨w1.heap.size, 0, none⟩ = some (Value.int .i64 N0) := fun o => (((Below.refl w4.heap.size w4).alloc (Nat.le_refl _) o).cell (p := ⟨w1.heap.size, 0, none⟩) (by simp; omega)).trans ((hb.cell (p := ⟨w1.heap.size, 0, none⟩) (by simp; omega)).trans (r0 _))
  have s0 : ∀ o, (w4.alloc o).cell? ⟨w1.heap.size, 1, none⟩ = some (Value.int .i64 D0) := fun o => (((Below.refl w4.heap.size w4).alloc (Nat.le_refl _) o).cell (p := ⟨w1.heap.size, 1, none⟩) (by simp; omega)).trans ((hb.cell (p := ⟨w1.heap.size, 1, none⟩) (by simp; omega)).trans (s0 _))
  have r1 : ∀ o, (w4.alloc o).cell? ⟨w2.heap.size, 0, none⟩ = some (Value.int .i64 N1) := fun o => (((Below.refl w4.heap.size w4).alloc (Nat.le_refl _) o).cell (p := ⟨w2.heap.size, 0, none⟩) (by simp; omega)).trans ((hb.cell (p := ⟨w2.heap.size, 0, none⟩) (by simp; omega)).trans (r1 _))
  have s1 : ∀ o, (w4.alloc o).cell? ⟨w2.heap.size, 1, none⟩ = some (Value.int .i64 D1) := fun o => (((Below.refl w4.heap.size w4).alloc (Nat.le_refl _) o).cell (p := ⟨w2.heap.size, 1, none⟩) (by simp; omega)).trans ((hb.cell (p := ⟨w2.heap.size, 1, none⟩) (by simp; omega)).trans (s1 _))
  have r2 : ∀ o, (w4.alloc o).cell? ⟨w3.heap.size, 0, none⟩ = some (Value.int .i64 N2) := fun o => (((Below.refl w4.heap.size w4).alloc (Nat.le_refl _) o).cell (p := ⟨w3.heap.size, 0, none⟩) (by simp; omega)).trans ((hb.cell (p := ⟨w3.heap.size, 0, none⟩) (by simp)).trans (show _ = some (Value.int .i64 N2) by simp [go_sem]))
  have s2 : ∀ o, (w4.alloc o).cell? ⟨w3.heap.size, 1, none⟩ = some (Value.int .i64 D2) := fun o => (((Below.refl w4.heap.size w4).alloc (Nat.le_refl _) o).cell (p := ⟨w3.heap.size, 1, none⟩) (by simp; omega)).trans ((hb.cell (p := ⟨w3.heap.size, 1, none⟩) (by simp)).trans (show _ = some (Value.int .i64 D2) by simp [go_sem]))
  have HB4 := hide (show Below w.heap.size w w4 from (HB3.out.alloc HB3.out.size _).trans (hb.mono (by have := HB3.out.size; simp; omega)))
  clear hb
  go_wp2_with fail
  refine (K _ (HT.out.keep (HB4.out.alloc HB4.out.size _))).out.mono ?_
  rintro e w5 ⟨rfl, hb⟩
  have HB5 := hide ((HB4.out.alloc HB4.out.size _).trans (hb.mono (by have := HB4.out.size; simp; omega)))
  clear hb
  go_wp2_with fail
  go_ret
  exact ⟨rfl, HB5.out⟩

set_option maxHeartbeats 8000000 in
set_option maxRecDepth 20000 in
theorem rd_no3 (n d x : Int) (w : World) (T : Tabs w) (hn : I64 n) (hd : I64 d) (hx : I64 x) (h0 : ofE n d x 0 = 0) (h1 : ofE n d x 1 = 0) (h2 : ofE n d x 2 = 0) (h3 : ofE n d x 3 ≠ 0) :
    Calls Tryd.prog 9 #[.agg #[.int .i64 n, .int .i64 d], .int .i64 x] w fun e w' => e = .returned (.bool true) ∧ Below w.heap.size w w' := by
  have HT := hide T
  clear T
  have O0 := fun w => hide (of_tuple n d x 0 w hn hd)
  have O1 := fun w => hide (of_tuple n d x 1 w hn hd)
  have O2 := fun w => hide (of_tuple n d x 2 w hn hd)
  have O3 := fun w => hide (of_tuple n d x 3 w hn hd)
  have K := fun w T => hide (known_any w T)
  clear hn hd
  rw [h0] at O0
  clear h0
  rw [h1] at O1
  clear h1
  rw [h2] at O2
  clear h2
  generalize ofV n d x 0 = V0 at *
  generalize ofN n d x 0 = N0 at *
  generalize ofD n d x 0 = D0 at *
  generalize ofV n d x 1 = V1 at *
  generalize ofN n d x 1 = N1 at *
  generalize ofD n d x 1 = D1 at *
  generalize ofV n d x 2 = V2 at *
  generalize ofN n d x 2 = N2 at *
  generalize ofD n d x 2 = D2 at *
  generalize ofV n d x 3 = V3 at *
  generalize ofN n d x 3 = N3 at *
  generalize ofD n d x 3 = D3 at *
  generalize ofE n d x 3 = X at *
  have e1 : (X == 0) = false := by simpa using h3
  have e2 : (X != 0) = true := by simpa using h3
  clear h3
  go_enter Tryd.func9, Tryd.ntmps9
  go_wp2_with fail
  refine (from_any _ _ _).mono ?_
  rintro e w0 ⟨rfl, hb⟩
  have z0 : w.heap.size + 1 ≤ w0.heap.size := by have := hb.size; simp at this; omega
  have b0 : ∀ o, (w0.alloc o).cell? ⟨w.heap.size, 0, none⟩ = some (Value.int .i64 n) := fun o => (((Below.refl w0.heap.size w0).alloc (Nat.le_refl _) o).cell (p := ⟨w.heap.size, 0, none⟩) (by simp; omega)).trans ((hb.cell (p := ⟨w.heap.size, 0, none⟩) (by simp)).trans (show _ = some (Value.int .i64 n) by simp [go_sem]))
  have b1 : ∀ o, (w0.alloc o).cell? ⟨w.heap.size, 1, none⟩ = some (Value.int .i64 d) := fun o => (((Below.refl w0.heap.size w0).alloc (Nat.le_refl _) o).cell (p := ⟨w.heap.size, 1, none⟩) (by simp; omega)).trans ((hb.cell (p := ⟨w.heap.size, 1, none⟩) (by simp)).trans (show _ = some (Value.int .i64 d) by simp [go_sem]))
  have HB0 := hide (show Below w.heap.size w w0 from ((Below.refl w.heap.size w).alloc (Nat.le_refl _) _).trans (hb.mono (by simp)))
  clear hb
  go_wp2_with fail
  refine (O0 _).out.mono ?_
  rintro e w1 ⟨rfl, hb⟩
  have z1 : w0.heap.size + 1 ≤ w1.heap.size := by have := hb.size; simp at this; omega
  have b0 : ∀ o, (w1.alloc o).cell? ⟨w.heap.size, 0, none⟩ = some (Value.int .i64 n) := fun o => (((Below.refl w1.heap.size w1).alloc (Nat.le_refl _) o).cell (p := ⟨w.heap.size, 0, none⟩) (by simp; omega)).trans ((hb.cell (p := ⟨w.heap.size, 0, none⟩) (by simp; omega)).trans (b0 _))
  have b1 : ∀ o, (w1.alloc o).cell? ⟨w.heap.size, 1, none⟩ = some (Value.int .i64 d) := fun o => (((Below.refl w1.heap.size w1).alloc (Nat.le_refl _) o).cell (p := ⟨w.heap.size, 1, none⟩) (by simp; omega)).trans ((hb.cell (p := ⟨w.heap.size, 1, none⟩) (by simp; omega)).trans (b1 _))
  have g0 : ∀ o, (w1.alloc o).cell? ⟨w0.heap.size, 0, none⟩ = some (Value.int .i64 n) := fun o => (((Below.refl w1.heap.size w1).alloc (Nat.le_refl _) o).cell (p := ⟨w0.heap.size, 0, none⟩) (by simp; omega)).trans ((hb.cell (p := ⟨w0.heap.size, 0, none⟩) (by simp)).trans (show _ = some (Value.int .i64 n) by simp [go_sem]))
  have g1 : ∀ o, (w1.alloc o).cell? ⟨w0.heap.size, 1, none⟩ = some (Value.int .i64 d) := fun o => (((Below.refl w1.heap.size w1).alloc (Nat.le_refl _) o).cell (p := ⟨w0.heap.size, 1, none⟩) (by simp; omega)).trans ((hb.cell (p := ⟨w0.heap.size, 1, none⟩) (by simp)).trans (show _ = some (Value.int .i64 d) by simp [go_sem]))
  have HB1 := hide (show Below w.heap.size w w1 from (HB0.out.alloc HB0.out.size _).trans (hb.mono (by have := HB0.out.size; simp; omega)))
  clear hb
  go_wp2_with fail
  refine (O1 _).out.mono ?_
  rintro e w2 ⟨rfl, hb⟩
  have z2 : w1.heap.size + 1 ≤ w2.heap.size := by have := hb.size; simp at this; omega
  have b0 : ∀ o, (w2.alloc o).cell? ⟨w.heap.size, 0, none⟩ = some (Value.int .i64 n) := fun o => (((Below.refl w2.heap.size w2).alloc (Nat.le_refl _) o).cell (p := ⟨w.heap.size, 0, none⟩) (by simp; omega)).trans ((hb.cell (p := ⟨w.heap.size, 0, none⟩) (by simp; omega)).trans (b0 _))
  have b1 : ∀ o, (w2.alloc o).cell? ⟨w.heap.size, 1, none⟩ = some (Value.int .i64 d) := fun o => (((Below.refl w2.heap.size w2).alloc (Nat.le_refl _) o).cell (p := ⟨w.heap.size, 1, none⟩) (by simp; omega)).trans ((hb.cell (p := ⟨w.heap.size, 1, none⟩) (by simp; omega)).trans (b1 _))
  have g0 : ∀ o, (w2.alloc o).cell? ⟨w0.heap.size, 0, none⟩ = some (Value.int .i64 n) := fun o => (((Below.refl w2.heap.size w2).alloc (Nat.le_refl _) o).cell (p := ⟨w0.heap.size, 0, none⟩) (by simp; omega)).trans ((hb.cell (p := ⟨w0.heap.size, 0, none⟩) (by simp; omega)).trans (g0 _))
  have g1 : ∀ o, (w2.alloc o).cell? ⟨w0.heap.size, 1, none⟩ = some (Value.int .i64 d) := fun o => (((Below.refl w2.heap.size w2).alloc (Nat.le_refl _) o).cell (p := ⟨w0.heap.size, 1, none⟩) (by simp; omega)).trans ((hb.cell (p := ⟨w0.heap.size, 1, none⟩) (by simp; omega)).trans (g1 _))
  have r0 : ∀ o, (w2.alloc o).cell? ⟨w1.heap.size, 0, none⟩ = some (Value.int .i64 N0) := fun o => (((Below.refl w2.heap.size w2).alloc (Nat.le_refl _) o).cell (p := ⟨w1.heap.size, 0, none⟩) (by simp; omega)).trans ((hb.cell (p := ⟨w1.heap.size, 0, none⟩) (by simp)).trans (show _ = some (Value.int .i64 N0) by simp [go_sem]))
  have s0 : ∀ o, (w2.alloc o).cell? ⟨w1.heap.size, 1, none⟩ = some (Value.int .i64 D0) := fun o => (((Below.refl w2.heap.size w2).alloc (Nat.le_refl _) o).cell (p := ⟨w1.heap.size, 1, none⟩) (by simp; omega)).trans ((hb.cell (p := ⟨w1.heap.size, 1, none⟩) (by simp)).trans (show _ = some (Value.int .i64 D0) by simp [go_sem]))
  have HB2 := hide (show Below w.heap.size w w2 from (HB1.out.alloc HB1.out.size _).trans (hb.mono (by have := HB1.out.size; simp; omega)))
  clear hb
  go_wp2_with fail
  refine (O2 _).out.mono ?_
  rintro e w3 ⟨rfl, hb⟩
  have z3 : w2.heap.size + 1 ≤ w3.heap.size := by have := hb.size; simp at this; omega
  have b0 : ∀ o, (w3.alloc o).cell? ⟨w.heap.size, 0, none⟩ = some (Value.int .i64 n) := fun o => (((Below.refl w3.heap.size w3).alloc (Nat.le_refl _) o).cell (p := ⟨w.heap.size, 0, none⟩) (by simp; omega)).trans ((hb.cell (p := ⟨w.heap.size, 0, none⟩) (by simp; omega)).trans (b0 _))
  have b1 : ∀ o, (w3.alloc o).cell? ⟨w.heap.size, 1, none⟩ = some (Value.int .i64 d) := fun o => (((Below.refl w3.heap.size w3).alloc (Nat.le_refl _) o).cell (p := ⟨w.heap.size, 1, none⟩) (by simp; omega)).trans ((hb.cell (p := ⟨w.heap.size, 1, none⟩) (by simp; omega)).trans (b1 _))
  have g0 : ∀ o, (w3.alloc o).cell? ⟨w0.heap.size, 0, none⟩ = some (Value.int .i64 n) := fun o => (((Below.refl w3.heap.size w3).alloc (Nat.le_refl _) o).cell (p := ⟨w0.heap.size, 0, none⟩) (by simp; omega)).trans ((hb.cell (p := ⟨w0.heap.size, 0, none⟩) (by simp; omega)).trans (g0 _))
  have g1 : ∀ o, (w3.alloc o).cell? ⟨w0.heap.size, 1, none⟩ = some (Value.int .i64 d) := fun o => (((Below.refl w3.heap.size w3).alloc (Nat.le_refl _) o).cell (p := ⟨w0.heap.size, 1, none⟩) (by simp; omega)).trans ((hb.cell (p := ⟨w0.heap.size, 1, none⟩) (by simp; omega)).trans (g1 _))
  have r0 : ∀ o, (w3.alloc o).cell? ⟨w1.heap.size, 0, none⟩ = some (Value.int .i64 N0) := fun o => (((Below.refl w3.heap.size w3).alloc (Nat.le_refl _) o).cell (p := ⟨w1.heap.size, 0, none⟩) (by simp; omega)).trans ((hb.cell (p := ⟨w1.heap.size, 0, none⟩) (by simp; omega)).trans (r0 _))
  have s0 : ∀ o, (w3.alloc o).cell? ⟨w1.heap.size, 1, none⟩ = some (Value.int .i64 D0) := fun o => (((Below.refl w3.heap.size w3).alloc (Nat.le_refl _) o).cell (p := ⟨w1.heap.size, 1, none⟩) (by simp; omega)).trans ((hb.cell (p := ⟨w1.heap.size, 1, none⟩) (by simp; omega)).trans (s0 _))
  have r1 : ∀ o, (w3.alloc o).cell? ⟨w2.heap.size, 0, none⟩ = some (Value.int .i64 N1) := fun o => (((Below.refl w3.heap.size w3).alloc (Nat.le_refl _) o).cell (p := ⟨w2.heap.size, 0, none⟩) (by simp; omega)).trans ((hb.cell (p := ⟨w2.heap.size, 0, none⟩) (by simp)).trans (show _ = some (Value.int .i64 N1) by simp [go_sem]))
  have s1 : ∀ o, (w3.alloc o).cell? ⟨w2.heap.size, 1, none⟩ = some (Value.int .i64 D1) := fun o => (((Below.refl w3.heap.size w3).alloc (Nat.le_refl _) o).cell (p := ⟨w2.heap.size, 1, none⟩) (by simp; omega)).trans ((hb.cell (p := ⟨w2.heap.size, 1, none⟩) (by simp)).trans (show _ = some (Value.int .i64 D1) by simp [go_sem]))
  have HB3 := hide (show Below w.heap.size w w3 from (HB2.out.alloc HB2.out.size _).trans (hb.mono (by have := HB2.out.size; simp; omega)))
  clear hb
  go_wp2_with fail
  refine (O3 _).out.mono ?_
  rintro e w4 ⟨rfl, hb⟩
  have z4 : w3.heap.size + 1 ≤ w4.heap.size := by have := hb.size; simp at this; omega
  have b0 : ∀ o, (w4.alloc o).cell? ⟨w.heap.size, 0, none⟩ = some (Value.int .i64 n) := fun o => (((Below.refl w4.heap.size w4).alloc (Nat.le_refl _) o).cell (p := ⟨w.heap.size, 0, none⟩) (by simp; omega)).trans ((hb.cell (p := ⟨w.heap.size, 0, none⟩) (by simp; omega)).trans (b0 _))
  have b1 : ∀ o, (w4.alloc o).cell? ⟨w.heap.size, 1, none⟩ = some (Value.int .i64 d) := fun o => (((Below.refl w4.heap.size w4).alloc (Nat.le_refl _) o).cell (p := ⟨w.heap.size, 1, none⟩) (by simp; omega)).trans ((hb.cell (p := ⟨w.heap.size, 1, none⟩) (by simp; omega)).trans (b1 _))
  have g0 : ∀ o, (w4.alloc o).cell? ⟨w0.heap.size, 0, none⟩ = some (Value.int .i64 n) := fun o => (((Below.refl w4.heap.size w4).alloc (Nat.le_refl _) o).cell (p := ⟨w0.heap.size, 0, none⟩) (by simp; omega)).trans ((hb.cell (p := ⟨w0.heap.size, 0, none⟩) (by simp; omega)).trans (g0 _))
  have g1 : ∀ o, (w4.alloc o).cell? ⟨w0.heap.size, 1, none⟩ = some (Value.int .i64 d) := fun o => (((Below.refl w4.heap.size w4).alloc (Nat.le_refl _) o).cell (p := ⟨w0.heap.size, 1, none⟩) (by simp; omega)).trans ((hb.cell (p := ⟨w0.heap.size, 1, none⟩) (by simp; omega)).trans (g1 _))
  have r0 : ∀ o, (w4.alloc o).cell? ⟨w1.heap.size, 0, none⟩ = some (Value.int .i64 N0) := fun o => (((Below.refl w4.heap.size w4).alloc (Nat.le_refl _) o).cell (p := ⟨w1.heap.size, 0, none⟩) (by simp; omega)).trans ((hb.cell (p := ⟨w1.heap.size, 0, none⟩) (by simp; omega)).trans (r0 _))
  have s0 : ∀ o, (w4.alloc o).cell? ⟨w1.heap.size, 1, none⟩ = some (Value.int .i64 D0) := fun o => (((Below.refl w4.heap.size w4).alloc (Nat.le_refl _) o).cell (p := ⟨w1.heap.size, 1, none⟩) (by simp; omega)).trans ((hb.cell (p := ⟨w1.heap.size, 1, none⟩) (by simp; omega)).trans (s0 _))
  have r1 : ∀ o, (w4.alloc o).cell? ⟨w2.heap.size, 0, none⟩ = some (Value.int .i64 N1) := fun o => (((Below.refl w4.heap.size w4).alloc (Nat.le_refl _) o).cell (p := ⟨w2.heap.size, 0, none⟩) (by simp; omega)).trans ((hb.cell (p := ⟨w2.heap.size, 0, none⟩) (by simp; omega)).trans (r1 _))
  have s1 : ∀ o, (w4.alloc o).cell? ⟨w2.heap.size, 1, none⟩ = some (Value.int .i64 D1) := fun o => (((Below.refl w4.heap.size w4).alloc (Nat.le_refl _) o).cell (p := ⟨w2.heap.size, 1, none⟩) (by simp; omega)).trans ((hb.cell (p := ⟨w2.heap.size, 1, none⟩) (by simp; omega)).trans (s1 _))
  have r2 : ∀ o, (w4.alloc o).cell? ⟨w3.heap.size, 0, none⟩ = some (Value.int .i64 N2) := fun o => (((Below.refl w4.heap.size w4).alloc (Nat.le_refl _) o).cell (p := ⟨w3.heap.size, 0, none⟩) (by simp; omega)).trans ((hb.cell (p := ⟨w3.heap.size, 0, none⟩) (by simp)).trans (show _ = some (Value.int .i64 N2) by simp [go_sem]))
  have s2 : ∀ o, (w4.alloc o).cell? ⟨w3.heap.size, 1, none⟩ = some (Value.int .i64 D2) := fun o => (((Below.refl w4.heap.size w4).alloc (Nat.le_refl _) o).cell (p := ⟨w3.heap.size, 1, none⟩) (by simp; omega)).trans ((hb.cell (p := ⟨w3.heap.size, 1, none⟩) (by simp)).trans (show _ = some (Value.int .i64 D2) by simp [go_sem]))
  have HB4 := hide (show Below w.heap.size w w4 from (HB3.out.alloc HB3.out.size _).trans (hb.mono (by have := HB3.out.size; simp; omega)))
  clear hb
  go_wp2_with fail
  refine (K _ (HT.out.keep (HB4.out.alloc HB4.out.size _))).out.mono ?_
  rintro e w5 ⟨rfl, hb⟩
  have HB5 := hide ((HB4.out.alloc HB4.out.size _).trans (hb.mono (by have := HB4.out.size; simp; omega)))
  clear hb
  go_wp2_with fail
  go_ret
  exact ⟨rfl, HB5.out⟩

end Go.Proofs.YtmdgjgeblplhpaaDoor
