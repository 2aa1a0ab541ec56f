/-
  The walk of FractionRounding.
-/
import Derived.Test.YtmdgjgeblplhpaaDoorFrd
namespace Go.Proofs.YtmdgjgeblplhpaaDoor
open Go.RowKit
set_option linter.unusedVariables false

set_option maxHeartbeats 8000000 in
set_option maxRecDepth 20000 in
theorem rd_yes (n d x : Int) (w : World) (T : Tabs w) (hn : I64 n) (hd : I64 d) (hx : I64 x) (h0 : ofE n d x 0 = 0) (h1 : ofE n d x 1 = 0) (h2 : ofE n d x 2 = 0) (h3 : ofE n d x 3 = 0) :
    Calls Tryd.prog 9 #[.agg #[.int .i64 n, .int .i64 d], .int .i64 x] w fun e w' => e = .returned (.bool true) ∧ Below w.heap.size w w' := by
  have HT := hide T
  clear T
  have O0 := fun w => hide (of_tuple n d x 0 w hn hd)
  have O1 := fun w => hide (of_tuple n d x 1 w hn hd)
  have O2 := fun w => hide (of_tuple n d x 2 w hn hd)
  have O3 := fun w => hide (of_tuple n d x 3 w hn hd)
  have OM := fun w => hide (of_tuple n d (-x) 0 w hn hd)
  have R := rd_of h0 h1 h2 h3
  rw [R.em, R.vm] at OM
  obtain ⟨_, _, lo, hi, near, same, even, up, dn, tie, neg, pos, ⟨b01, b02⟩, ⟨b11, b12⟩, ⟨b21, b22⟩, ⟨x1, x2⟩⟩ := R
  have K := fun w T => hide (known_any w T)
  clear hn hd
  rw [h0] at O0
  clear h0
  rw [h1] at O1
  clear h1
  rw [h2] at O2
  clear h2
  rw [h3] at O3
  clear h3
  generalize ofN n d (-x) 0 = NM at *
  generalize ofD n d (-x) 0 = DM at *
  generalize ofV n d x 0 = V0 at *
  generalize ofN n d x 0 = N0 at *
  generalize ofD n d x 0 = D0 at *
  generalize ofV n d x 1 = V1 at *
  generalize ofN n d x 1 = N1 at *
  generalize ofD n d x 1 = D1 at *
  generalize ofV n d x 2 = V2 at *
  generalize ofN n d x 2 = N2 at *
  generalize ofD n d x 2 = D2 at *
  generalize ofV n d x 3 = V3 at *
  generalize ofN n d x 3 = N3 at *
  generalize ofD n d x 3 = D3 at *
  have HLO := hide lo
  have HHI := hide hi
  have HNEAR := hide near
  have HSAME := hide same
  have HEVEN := hide even
  have HUP := hide up
  have HDN := hide dn
  have HTIE := hide tie
  have HNEG := hide neg
  have HPOS := hide pos
  clear lo hi near same even up dn tie neg pos
  go_enter Tryd.func9, Tryd.ntmps9
  go_wp2_with fail
  refine (from_any _ _ _).mono ?_
  rintro e w0 ⟨rfl, hb⟩
  have z0 : w.heap.size + 1 ≤ w0.heap.size := by have := hb.size; simp at this; omega
  have b0 : ∀ o, (w0.alloc o).cell? ⟨w.heap.size, 0, none⟩ = some (Value.int .i64 n) := fun o => (((Below.refl w0.heap.size w0).alloc (Nat.le_refl _) o).cell (p := ⟨w.heap.size, 0, none⟩) (by simp; omega)).trans ((hb.cell (p := ⟨w.heap.size, 0, none⟩) (by simp)).trans (show _ = some (Value.int .i64 n) by simp [go_sem]))
  have b1 : ∀ o, (w0.alloc o).cell? ⟨w.heap.size, 1, none⟩ = some (Value.int .i64 d) := fun o => (((Below.refl w0.heap.size w0).alloc (Nat.le_refl _) o).cell (p := ⟨w.heap.size, 1, none⟩) (by simp; omega)).trans ((hb.cell (p := ⟨w.heap.size, 1, none⟩) (by simp)).trans (show _ = some (Value.int .i64 d) by simp [go_sem]))
  have HB0 := hide (show Below w.heap.size w w0 from ((Below.refl w.heap.size w).alloc (Nat.le_refl _) _).trans (hb.mono (by simp)))
  clear hb
  go_wp2_with fail
  refine (O0 _).out.mono ?_
  rintro e w1 ⟨rfl, hb⟩
  have z1 : w0.heap.size + 1 ≤ w1.heap.size := by have := hb.size; simp at this; omega
  have b0 : ∀ o, (w1.alloc o).cell? ⟨w.heap.size, 0, none⟩ = some (Value.int .i64 n) := fun o => (((Below.refl w1.heap.size w1).alloc (Nat.le_refl _) o).cell (p := ⟨w.heap.size, 0, none⟩) (by simp; omega)).trans ((hb.cell (p := ⟨w.heap.size, 0, none⟩) (by simp; omega)).trans (b0 _))
  have b1 : ∀ o, (w1.alloc o).cell? ⟨w.heap.size, 1, none⟩ = some (Value.int .i64 d) := fun o => (((Below.refl w1.heap.size w1).alloc (Nat.le_refl _) o).cell (p := ⟨w.heap.size, 1, none⟩) (by simp; omega)).trans ((hb.cell (p := ⟨w.heap.size, 1, none⟩) (by simp; omega)).trans (b1 _))
  have g0 : ∀ o, (w1.alloc o).cell? ⟨w0.heap.size, 0, none⟩ = some (Value.int .i64 n) := fun o => (((Below.refl w1.heap.size w1).alloc (Nat.le_refl _) o).cell (p := ⟨w0.heap.size, 0, none⟩) (by simp; omega)).trans ((hb.cell (p := ⟨w0.heap.size, 0, none⟩) (by simp)).trans (show _ = some (Value.int .i64 n) by simp [go_sem]))
  have g1 : ∀ o, (w1.alloc o).cell? ⟨w0.heap.size, 1, none⟩ = some (Value.int .i64 d) := fun o => (((Below.refl w1.heap.size w1).alloc (Nat.le_refl _) o).cell (p := ⟨w0.heap.size, 1, none⟩) (by simp; omega)).trans ((hb.cell (p := ⟨w0.heap.size, 1, none⟩) (by simp)).trans (show _ = some (Value.int .i64 d) by simp [go_sem]))
  have HB1 := hide (show Below w.heap.size w w1 from (HB0.out.alloc HB0.out.size _).trans (hb.mono (by have := HB0.out.size; simp; omega)))
  clear hb
  go_wp2_with fail
  refine (O1 _).out.mono ?_
  rintro e w2 ⟨rfl, hb⟩
  have z2 : w1.heap.size + 1 ≤ w2.heap.size := by have := hb.size; simp at this; omega
  have b0 : ∀ o, (w2.alloc o).cell? ⟨w.heap.size, 0, none⟩ = some (Value.int .i64 n) := fun o => (((Below.refl w2.heap.size w2).alloc (Nat.le_refl _) o).cell (p := ⟨w.heap.size, 0, none⟩) (by simp; omega)).trans ((hb.cell (p := ⟨w.heap.size, 0, none⟩) (by simp; omega)).trans (b0 _))
  have b1 : ∀ o, (w2.alloc o).cell? ⟨w.heap.size, 1, none⟩ = some (Value.int .i64 d) := fun o => (((Below.refl w2.heap.size w2).alloc (Nat.le_refl _) o).cell (p := ⟨w.heap.size, 1, none⟩) (by simp; omega)).trans ((hb.cell (p := ⟨w.heap.size, 1, none⟩) (by simp; omega)).trans (b1 _))
  have g0 : ∀ o, (w2.alloc o).cell? ⟨w0.heap.size, 0, none⟩ = some (Value.int .i64 n) := fun o => (((Below.refl w2.heap.size w2).alloc (Nat.le_refl _) o).cell (p := ⟨w0.heap.size, 0, none⟩) (by simp; omega)).trans ((hb.cell (p := ⟨w0.heap.size, 0, none⟩) (by simp; omega)).trans (g0 _))
  have g1 : ∀ o, (w2.alloc o).cell? ⟨w0.heap.size, 1, none⟩ = some (Value.int .i64 d) := fun o => (((Below.refl w2.heap.size w2).alloc (Nat.le_refl _) o).cell (p := ⟨w0.heap.size, 1, none⟩) (by simp; omega)).trans ((hb.cell (p := ⟨w0.heap.size, 1, none⟩) (by simp; omega)).trans (g1 _))
  have r0 : ∀ o, (w2.alloc o).cell? ⟨w1.heap.size, 0, none⟩ = some (Value.int .i64 N0) := fun o => (((Below.refl w2.heap.size w2).alloc (Nat.le_refl _) o).cell (p := ⟨w1.heap.size, 0, none⟩) (by simp; omega)).trans ((hb.cell (p := ⟨w1.heap.size, 0, none⟩) (by simp)).trans (show _ = some (Value.int .i64 N0) by simp [go_sem]))
  have s0 : ∀ o, (w2.alloc o).cell? ⟨w1.heap.size, 1, none⟩ = some (Value.int .i64 D0) := fun o => (((Below.refl w2.heap.size w2).alloc (Nat.le_refl _) o).cell (p := ⟨w1.heap.size, 1, none⟩) (by simp; omega)).trans ((hb.cell (p := ⟨w1.heap.size, 1, none⟩) (by simp)).trans (show _ = some (Value.int .i64 D0) by simp [go_sem]))
  have HB2 := hide (show Below w.heap.size w w2 from (HB1.out.alloc HB1.out.size _).trans (hb.mono (by have := HB1.out.size; simp; omega)))
  clear hb
  go_wp2_with fail
  refine (O2 _).out.mono ?_
  rintro e w3 ⟨rfl, hb⟩
  have z3 : w2.heap.size + 1 ≤ w3.heap.size := by have := hb.size; simp at this; omega
  have b0 : ∀ o, (w3.alloc o).cell? ⟨w.heap.size, 0, none⟩ = some (Value.int .i64 n) := fun o => (((Below.refl w3.heap.size w3).alloc (Nat.le_refl _) o).cell (p := ⟨w.heap.size, 0, none⟩) (by simp; omega)).trans ((hb.cell (p := ⟨w.heap.size, 0, none⟩) (by simp; omega)).trans (b0 _))
  have b1 : ∀ o, (w3.alloc o).cell? ⟨w.heap.size, 1, none⟩ = some (Value.int .i64 d) := fun o => (((Below.refl w3.heap.size w3).alloc (Nat.le_refl _) o).cell (p := ⟨w.heap.size, 1, none⟩) (by simp; omega)).trans ((hb.cell (p := ⟨w.heap.size, 1, none⟩) (by simp; omega)).trans (b1 _))
  have g0 : ∀ o, (w3.alloc o).cell? ⟨w0.heap.size, 0, none⟩ = some (Value.int .i64 n) := fun o => (((Below.refl w3.heap.size w3).alloc (Nat.le_refl _) o).cell (p := ⟨w0.heap.size, 0, none⟩) (by simp; omega)).trans ((hb.cell (p := ⟨w0.heap.size, 0, none⟩) (by simp; omega)).trans (g0 _))
  have g1 : ∀ o, (w3.alloc o).cell? ⟨w0.heap.size, 1, none⟩ = some (Value.int .i64 d) := fun o => (((Below.refl w3.heap.size w3).alloc (Nat.le_refl _) o).cell (p := ⟨w0.heap.size, 1, none⟩) (by simp; omega)).trans ((hb.cell (p := ⟨w0.heap.size, 1, none⟩) (by simp; omega)).trans (g1 _))
  have r0 : ∀ o, (w3.alloc o).cell? ⟨w1.heap.size, 0, none⟩ = some (Value.int .i64 N0) := fun o => (((Below.refl w3.heap.size w3).alloc (Nat.le_refl _) o).cell (p := ⟨w1.heap.size, 0, none⟩) (by simp; omega)).trans ((hb.cell (p := ⟨w1.heap.size, 0, none⟩) (by simp; omega)).trans (r0 _))
  have s0 : ∀ o, (w3.alloc o).cell? ⟨w1.heap.size, 1, none⟩ = some (Value.int .i64 D0) := fun o => (((Below.refl w3.heap.size w3).alloc (Nat.le_refl _) o).cell (p := ⟨w1.heap.size, 1, none⟩) (by simp; omega)).trans ((hb.cell (p := ⟨w1.heap.size, 1, none⟩) (by simp; omega)).trans (s0 _))
  have r1 : ∀ o, (w3.alloc o).cell? ⟨w2.heap.size, 0, none⟩ = some (Value.int .i64 N1) := fun o => (((Below.refl w3.heap.size w3).alloc (Nat.le_refl _) o).cell (p := ⟨w2.heap.size, 0, none⟩) (by simp; omega)).trans ((hb.cell (p := ⟨w2.heap.size, 0, none⟩) (by simp)).trans (show _ = some (Value.int .i64 N1) by simp [go_sem]))
  have s1 : ∀ o, (w3.alloc o).cell? ⟨w2.heap.size, 1, none⟩ = some (Value.int .i64 D1) := fun o => (((Below.refl w3.heap.size w3).alloc (Nat.le_refl _) o).cell (p := ⟨w2.heap.size, 1, none⟩) (by simp; omega)).trans ((hb.cell (p := ⟨w2.heap.size, 1, none⟩) (by simp)).trans (show _ = some (Value.int .i64 D1) by simp [go_sem]))
  have HB3 := hide (show Below w.heap.size w w3 from (HB2.out.alloc HB2.out.size _).trans (hb.mono (by have := HB2.out.size; simp; omega)))
  clear hb
  go_wp2_with fail
  refine (O3 _).out.mono ?_
  rintro e w4 ⟨rfl, hb⟩
  have z4 : w3.heap.size + 1 ≤ w4.heap.size := by have := hb.size; simp at this; omega
  have b0 : ∀ o, (w4.alloc o).cell? ⟨w.heap.size, 0, none⟩ = some (Value.int .i64 n) := fun o => (((Below.refl w4.heap.size w4).alloc (Nat.le_refl _) o).cell (p := ⟨w.heap.size, 0, none⟩) (by simp; omega)).trans ((hb.cell (p := ⟨w.heap.size, 0, none⟩) (by simp; omega)).trans (b0 _))
  have b1 : ∀ o, (w4.alloc o).cell? ⟨w.heap.size, 1, none⟩ = some (Value.int .i64 d) := fun o => (((Below.refl w4.heap.size w4).alloc (Nat.le_refl _) o).cell (p := ⟨w.heap.size, 1, none⟩) (by simp; omega)).trans ((hb.cell (p := ⟨w.heap.size, 1, none⟩) (by simp; omega)).trans (b1 _))
  have g0 : ∀ o, (w4.alloc o).cell? ⟨w0.heap.size, 0, none⟩ = some (Value.int .i64 n) := fun o => (((Below.refl w4.heap.size w4).alloc (Nat.le_refl _) o).cell (p := ⟨w0.heap.size, 0, none⟩) (by simp; omega)).trans ((hb.cell (p := ⟨w0.heap.size, 0, none⟩) (by simp; omega)).trans (g0 _))
  have g1 : ∀ o, (w4.alloc o).cell? ⟨w0.heap.size, 1, none⟩ = some (Value.int .i64 d) := fun o => (((Below.refl w4.heap.size w4).alloc (Nat.le_refl _) o).cell (p := ⟨w0.heap.size, 1, none⟩) (by simp; omega)).trans ((hb.cell (p := ⟨w0.heap.size, 1, none⟩) (by simp; omega)).trans (g1 _))
  have r0 : ∀ o, (w4.alloc o).cell? ⟨w1.heap.size, 0, none⟩ = some (Value.int .i64 N0) := fun o => (((Below.refl w4.heap.size w4).alloc (Nat.le_refl _) o).cell (p := ⟨w1.heap.size, 0, none⟩) (by simp; omega)).trans ((hb.cell (p := ⟨w1.heap.size, 0, none⟩) (by simp; omega)).trans (r0 _))
  have s0 : ∀ o, (w4.alloc o).cell? ⟨w1.heap.size, 1, none⟩ = some (Value.int .i64 D0) := fun o => (((Below.refl w4.heap.size w4).alloc (Nat.le_refl _) o).cell (p := ⟨w1.heap.size, 1, none⟩) (by simp; omega)).trans ((hb.cell (p := ⟨w1.heap.size, 1, none⟩) (by simp; omega)).trans (s0 _))
  have r1 : ∀ o, (w4.alloc o).cell? ⟨w2.heap.size, 0, none⟩ = some (Value.int .i64 N1) := fun o => (((Below.refl w4.heap.size w4).alloc (Nat.le_refl _) o).cell (p := ⟨w2.heap.size, 0, none⟩) (by simp; omega)).trans ((hb.cell (p := ⟨w2.heap.size, 0, none⟩) (by simp; omega)).trans (r1 _))
  have s1 : ∀ o, (w4.alloc o).cell? ⟨w2.heap.size, 1, none⟩ = some (Value.int .i64 D1) := fun o => (((Below.refl w4.heap.size w4).alloc (Nat.le_refl _) o).cell (p := ⟨w2.heap.size, 1, none⟩) (by simp; omega)).trans ((hb.cell (p := ⟨w2.heap.size, 1, none⟩) (by simp; omega)).trans (s1 _))
  have r2 : ∀ o, (w4.alloc o).cell? ⟨w3.heap.size, 0, none⟩ = some (Value.int .i64 N2) := fun o => (((Below.refl w4.heap.size w4).alloc (Nat.le_refl _) o).cell (p := ⟨w3.heap.size, 0, none⟩) (by simp; omega)).trans ((hb.cell (p := ⟨w3.heap.size, 0, none⟩) (by simp)).trans (show _ = some (Value.int .i64 N2) by simp [go_sem]))
  have s2 : ∀ o, (w4.alloc o).cell? ⟨w3.heap.size, 1, none⟩ = some (Value.int .i64 D2) := fun o => (((Below.refl w4.heap.size w4).alloc (Nat.le_refl _) o).cell (p := ⟨w3.heap.size, 1, none⟩) (by simp; omega)).trans ((hb.cell (p := ⟨w3.heap.size, 1, none⟩) (by simp)).trans (show _ = some (Value.int .i64 D2) by simp [go_sem]))
  have HB4 := hide (show Below w.heap.size w w4 from (HB3.out.alloc HB3.out.size _).trans (hb.mono (by have := HB3.out.size; simp; omega)))
  clear hb
  go_wp2_with fail
  refine (OM _).out.mono ?_
  rintro e w5 ⟨rfl, hb⟩
  have z5 : w4.heap.size + 1 ≤ w5.heap.size := by have := hb.size; simp at this; omega
  have b0 : ∀ o, (w5.alloc o).cell? ⟨w.heap.size, 0, none⟩ = some (Value.int .i64 n) := fun o => (((Below.refl w5.heap.size w5).alloc (Nat.le_refl _) o).cell (p := ⟨w.heap.size, 0, none⟩) (by simp; omega)).trans ((hb.cell (p := ⟨w.heap.size, 0, none⟩) (by simp; omega)).trans (b0 _))
  have b1 : ∀ o, (w5.alloc o).cell? ⟨w.heap.size, 1, none⟩ = some (Value.int .i64 d) := fun o => (((Below.refl w5.heap.size w5).alloc (Nat.le_refl _) o).cell (p := ⟨w.heap.size, 1, none⟩) (by simp; omega)).trans ((hb.cell (p := ⟨w.heap.size, 1, none⟩) (by simp; omega)).trans (b1 _))
  have r0 : ∀ o, (w5.alloc o).cell? ⟨w1.heap.size, 0, none⟩ = some (Value.int .i64 N0) := fun o => (((Below.refl w5.heap.size w5).alloc (Nat.le_refl _) o).cell (p := ⟨w1.heap.size, 0, none⟩) (by simp; omega)).trans ((hb.cell (p := ⟨w1.heap.size, 0, none⟩) (by simp; omega)).trans (r0 _))
  have s0 : ∀ o, (w5.alloc o).cell? ⟨w1.heap.size, 1, none⟩ = some (Value.int .i64 D0) := fun o => (((Below.refl w5.heap.size w5).alloc (Nat.le_refl _) o).cell (p := ⟨w1.heap.size, 1, none⟩) (by simp; omega)).trans ((hb.cell (p := ⟨w1.heap.size, 1, none⟩) (by simp; omega)).trans (s0 _))
  have r1 : ∀ o, (w5.alloc o).cell? ⟨w2.heap.size, 0, none⟩ = some (Value.int .i64 N1) := fun o => (((Below.refl w5.heap.size w5).alloc (Nat.le_refl _) o).cell (p := ⟨w2.heap.size, 0, none⟩) (by simp; omega)).trans ((hb.cell (p := ⟨w2.heap.size, 0, none⟩) (by simp; omega)).trans (r1 _))
  have s1 : ∀ o, (w5.alloc o).cell? ⟨w2.heap.size, 1, none⟩ = some (Value.int .i64 D1) := fun o => (((Below.refl w5.heap.size w5).alloc (Nat.le_refl _) o).cell (p := ⟨w2.heap.size, 1, none⟩) (by simp; omega)).trans ((hb.cell (p := ⟨w2.heap.size, 1, none⟩) (by simp; omega)).trans (s1 _))
  have r2 : ∀ o, (w5.alloc o).cell? ⟨w3.heap.size, 0, none⟩ = some (Value.int .i64 N2) := fun o => (((Below.refl w5.heap.size w5).alloc (Nat.le_refl _) o).cell (p := ⟨w3.heap.size, 0, none⟩) (by simp; omega)).trans ((hb.cell (p := ⟨w3.heap.size, 0, none⟩) (by simp; omega)).trans (r2 _))
  have s2 : ∀ o, (w5.alloc o).cell? ⟨w3.heap.size, 1, none⟩ = some (Value.int .i64 D2) := fun o => (((Below.refl w5.heap.size w5).alloc (Nat.le_refl _) o).cell (p := ⟨w3.heap.size, 1, none⟩) (by simp; omega)).trans ((hb.cell (p := ⟨w3.heap.size, 1, none⟩) (by simp; omega)).trans (s2 _))
  have HB5 := hide (show Below w.heap.size w w5 from (HB4.out.alloc HB4.out.size _).trans (hb.mono (by have := HB4.out.size; simp; omega)))
  clear hb
  go_upto_region 9 with fail
  go_cut [107] (fun c wx => c = .bool false ∧ wx = (w5.alloc (Obj.cells #[Value.int IntKind.i64 NM, Value.int IntKind.i64 DM] 23)))
  case first =>
    have lo := HLO.out
    have hi := HHI.out
    have near := HNEAR.out
    by_cases hN : N0 = 0
    · obtain rfl := HSAME.out.2 hN
      subst hN
      go_wp2_with fail
      go_meet
      case rel => exact ⟨congrArg Value.bool (by simp <;> omega), rfl⟩
    · have e1 : (N0 == 0) = false := by simpa using hN
      have e2 : (V1 == V0) = false := by simpa using fun h => hN (HSAME.out.1 h)
      clear hN
      go_wp2_with fail
      go_meet
      case rel => exact ⟨congrArg Value.bool (by simp <;> omega), rfl⟩
  case rest =>
    obtain ⟨rfl, rfl⟩ := hcut
    have hev : V2 = V0 ∨ ((V2 == V0) = false ∧ (¬ V2 = V0) ∧ V2 = V1) := by
      by_cases h : V2 = V0
      · exact Or.inl h
      · exact Or.inr ⟨by simpa using h, h, by rcases HEVEN.out with g | g; exact absurd g h; exact g⟩
    rcases hev with rfl | ⟨ev, evp, rfl⟩
    · go_upto_region 11 with fail
      go_cut [152] (fun c wx => c = .bool false ∧ wx = (w5.alloc (Obj.cells #[Value.int IntKind.i64 NM, Value.int IntKind.i64 DM] 23)))
      case first =>
        have up : ¬ D2 < 2 * N2 := by have := HUP.out; omega
        have dn : ¬ D2 < -2 * N2 := by have := HDN.out; omega
        have ht := HTIE.out
        have nb1 : wrap64 (2 * N2) = 2 * N2 := wrap_small (by omega) (by omega)
        have nb2 : wrap64 (-2 * N2) = -2 * N2 := wrap_small (by omega) (by omega)
        by_cases t1 : 2 * N2 = D2
        · have e1 : (2 * N2 == D2) = true := by simpa using t1
          have e3 := beq_iff_eq.2 (ht (Or.inl t1))
          clear t1 ht
          go_wp2_with fail
          go_meet
          case rel => exact ⟨congrArg Value.bool (by simp [beq_iff_eq.1 e3] <;> omega), rfl⟩
        · have e1 : (2 * N2 == D2) = false := by simpa using t1
          by_cases t2 : -2 * N2 = D2
          · have e2 : (-2 * N2 == D2) = true := by simpa using t2
            have e3 := beq_iff_eq.2 (ht (Or.inr t2))
            clear t1 t2 ht
            go_wp2_with fail
            go_meet
            case rel => exact ⟨congrArg Value.bool (by simp [beq_iff_eq.1 e3] <;> omega), rfl⟩
          · have e2 : (-2 * N2 == D2) = false := by simpa using t2
            clear t1 t2 ht
            go_wp2_with fail
            go_meet
            case rel => exact ⟨congrArg Value.bool (by simp <;> omega), rfl⟩
      case rest =>
        obtain ⟨rfl, rfl⟩ := hcut
        by_cases a1 : x < 0
        · have e1 : (x == 0) = false := by simp; omega
          by_cases a3 : n < 0
          · have e2 : (n == 0) = false := by simp; omega
            have e9 := HPOS.out (by omega)
            obtain rfl := e9
            go_wp2_with fail
            refine (K _ (HT.out.keep (HB5.out.alloc HB5.out.size _))).out.mono ?_
            rintro e w6 ⟨rfl, hb⟩
            have HB6 := hide ((HB5.out.alloc HB5.out.size _).trans (hb.mono (by have := HB5.out.size; simp; omega)))
            clear hb
            go_wp2_with fail
            go_ret
            exact ⟨rfl, HB6.out⟩
          · by_cases a4 : n = 0
            · subst a4
              have e9 := HPOS.out (by omega)
              obtain rfl := e9
              go_wp2_with fail
              refine (K _ (HT.out.keep (HB5.out.alloc HB5.out.size _))).out.mono ?_
              rintro e w6 ⟨rfl, hb⟩
              have HB6 := hide ((HB5.out.alloc HB5.out.size _).trans (hb.mono (by have := HB5.out.size; simp; omega)))
              clear hb
              go_wp2_with fail
              go_ret
              exact ⟨rfl, HB6.out⟩
            · have e2 : (n == 0) = false := by simpa using a4
              have e9 := HNEG.out (by omega)
              obtain rfl := e9
              go_wp2_with fail
              refine (K _ (HT.out.keep (HB5.out.alloc HB5.out.size _))).out.mono ?_
              rintro e w6 ⟨rfl, hb⟩
              have HB6 := hide ((HB5.out.alloc HB5.out.size _).trans (hb.mono (by have := HB5.out.size; simp; omega)))
              clear hb
              go_wp2_with fail
              go_ret
              exact ⟨rfl, HB6.out⟩
        · by_cases a2 : x = 0
          · subst a2
            by_cases a3 : n < 0
            · have e2 : (n == 0) = false := by simp; omega
              have e9 := HPOS.out (by omega)
              obtain rfl := e9
              go_wp2_with fail
              refine (K _ (HT.out.keep (HB5.out.alloc HB5.out.size _))).out.mono ?_
              rintro e w6 ⟨rfl, hb⟩
              have HB6 := hide ((HB5.out.alloc HB5.out.size _).trans (hb.mono (by have := HB5.out.size; simp; omega)))
              clear hb
              go_wp2_with fail
              go_ret
              exact ⟨rfl, HB6.out⟩
            · by_cases a4 : n = 0
              · subst a4
                have e9 := HPOS.out (by omega)
                obtain rfl := e9
                go_wp2_with fail
                refine (K _ (HT.out.keep (HB5.out.alloc HB5.out.size _))).out.mono ?_
                rintro e w6 ⟨rfl, hb⟩
                have HB6 := hide ((HB5.out.alloc HB5.out.size _).trans (hb.mono (by have := HB5.out.size; simp; omega)))
                clear hb
                go_wp2_with fail
                go_ret
                exact ⟨rfl, HB6.out⟩
              · have e2 : (n == 0) = false := by simpa using a4
                have e9 := HPOS.out (by omega)
                obtain rfl := e9
                go_wp2_with fail
                refine (K _ (HT.out.keep (HB5.out.alloc HB5.out.size _))).out.mono ?_
                rintro e w6 ⟨rfl, hb⟩
                have HB6 := hide ((HB5.out.alloc HB5.out.size _).trans (hb.mono (by have := HB5.out.size; simp; omega)))
                clear hb
                go_wp2_with fail
                go_ret
                exact ⟨rfl, HB6.out⟩
          · have e1 : (x == 0) = false := by simpa using a2
            by_cases a3 : n < 0
            · have e2 : (n == 0) = false := by simp; omega
              have e9 := HNEG.out (by omega)
              obtain rfl := e9
              go_wp2_with fail
              refine (K _ (HT.out.keep (HB5.out.alloc HB5.out.size _))).out.mono ?_
              rintro e w6 ⟨rfl, hb⟩
              have HB6 := hide ((HB5.out.alloc HB5.out.size _).trans (hb.mono (by have := HB5.out.size; simp; omega)))
              clear hb
              go_wp2_with fail
              go_ret
              exact ⟨rfl, HB6.out⟩
            · by_cases a4 : n = 0
              · subst a4
                have e9 := HPOS.out (by omega)
                obtain rfl := e9
                go_wp2_with fail
                refine (K _ (HT.out.keep (HB5.out.alloc HB5.out.size _))).out.mono ?_
                rintro e w6 ⟨rfl, hb⟩
                have HB6 := hide ((HB5.out.alloc HB5.out.size _).trans (hb.mono (by have := HB5.out.size; simp; omega)))
                clear hb
                go_wp2_with fail
                go_ret
                exact ⟨rfl, HB6.out⟩
              · have e2 : (n == 0) = false := by simpa using a4
                have e9 := HPOS.out (by omega)
                obtain rfl := e9
                go_wp2_with fail
                refine (K _ (HT.out.keep (HB5.out.alloc HB5.out.size _))).out.mono ?_
                rintro e w6 ⟨rfl, hb⟩
                have HB6 := hide ((HB5.out.alloc HB5.out.size _).trans (hb.mono (by have := HB5.out.size; simp; omega)))
                clear hb
                go_wp2_with fail
                go_ret
                exact ⟨rfl, HB6.out⟩
    · go_upto_region 11 with fail
      go_cut [152] (fun c wx => c = .bool false ∧ wx = (w5.alloc (Obj.cells #[Value.int IntKind.i64 NM, Value.int IntKind.i64 DM] 23)))
      case first =>
        have up : ¬ D2 < 2 * N2 := by have := HUP.out; omega
        have dn : ¬ D2 < -2 * N2 := by have := HDN.out; omega
        have ht := HTIE.out
        have nb1 : wrap64 (2 * N2) = 2 * N2 := wrap_small (by omega) (by omega)
        have nb2 : wrap64 (-2 * N2) = -2 * N2 := wrap_small (by omega) (by omega)
        by_cases t1 : 2 * N2 = D2
        · have e1 : (2 * N2 == D2) = true := by simpa using t1
          have e3 := beq_iff_eq.2 (ht (Or.inl t1))
          clear t1 ht
          go_wp2_with fail
          go_meet
          case rel => exact ⟨congrArg Value.bool (by simp [beq_iff_eq.1 e3] <;> omega), rfl⟩
        · have e1 : (2 * N2 == D2) = false := by simpa using t1
          by_cases t2 : -2 * N2 = D2
          · have e2 : (-2 * N2 == D2) = true := by simpa using t2
            have e3 := beq_iff_eq.2 (ht (Or.inr t2))
            clear t1 t2 ht
            go_wp2_with fail
            go_meet
            case rel => exact ⟨congrArg Value.bool (by simp [beq_iff_eq.1 e3] <;> omega), rfl⟩
          · have e2 : (-2 * N2 == D2) = false := by simpa using t2
            clear t1 t2 ht
            go_wp2_with fail
            go_meet
            case rel => exact ⟨congrArg Value.bool (by simp <;> omega), rfl⟩
      case rest =>
        obtain ⟨rfl, rfl⟩ := hcut
        by_cases a1 : x < 0
        · have e1 : (x == 0) = false := by simp; omega
          by_cases a3 : n < 0
          · have e2 : (n == 0) = false := by simp; omega
            have e9 := HPOS.out (by omega)
            obtain rfl := e9
            go_wp2_with fail
            refine (K _ (HT.out.keep (HB5.out.alloc HB5.out.size _))).out.mono ?_
            rintro e w6 ⟨rfl, hb⟩
            have HB6 := hide ((HB5.out.alloc HB5.out.size _).trans (hb.mono (by have := HB5.out.size; simp; omega)))
            clear hb
            go_wp2_with fail
            go_ret
            exact ⟨rfl, HB6.out⟩
          · by_cases a4 : n = 0
            · subst a4
              have e9 := HPOS.out (by omega)
              obtain rfl := e9
              go_wp2_with fail
              refine (K _ (HT.out.keep (HB5.out.alloc HB5.out.size _))).out.mono ?_
              rintro e w6 ⟨rfl, hb⟩
              have HB6 := hide ((HB5.out.alloc HB5.out.size _).trans (hb.mono (by have := HB5.out.size; simp; omega)))
              clear hb
              go_wp2_with fail
              go_ret
              exact ⟨rfl, HB6.out⟩
            · have e2 : (n == 0) = false := by simpa using a4
              have e9 := HNEG.out (by omega)
              obtain rfl := e9
              go_wp2_with fail
              refine (K _ (HT.out.keep (HB5.out.alloc HB5.out.size _))).out.mono ?_
              rintro e w6 ⟨rfl, hb⟩
              have HB6 := hide ((HB5.out.alloc HB5.out.size _).trans (hb.mono (by have := HB5.out.size; simp; omega)))
              clear hb
              go_wp2_with fail
              go_ret
              exact ⟨rfl, HB6.out⟩
        · by_cases a2 : x = 0
          · subst a2
            by_cases a3 : n < 0
            · have e2 : (n == 0) = false := by simp; omega
              have e9 := HPOS.out (by omega)
              obtain rfl := e9
              go_wp2_with fail
              refine (K _ (HT.out.keep (HB5.out.alloc HB5.out.size _))).out.mono ?_
              rintro e w6 ⟨rfl, hb⟩
              have HB6 := hide ((HB5.out.alloc HB5.out.size _).trans (hb.mono (by have := HB5.out.size; simp; omega)))
              clear hb
              go_wp2_with fail
              go_ret
              exact ⟨rfl, HB6.out⟩
            · by_cases a4 : n = 0
              · subst a4
                have e9 := HPOS.out (by omega)
                obtain rfl := e9
                go_wp2_with fail
                refine (K _ (HT.out.keep (HB5.out.alloc HB5.out.size _))).out.mono ?_
                rintro e w6 ⟨rfl, hb⟩
                have HB6 := hide ((HB5.out.alloc HB5.out.size _).trans (hb.mono (by have := HB5.out.size; simp; omega)))
                clear hb
                go_wp2_with fail
                go_ret
                exact ⟨rfl, HB6.out⟩
              · have e2 : (n == 0) = false := by simpa using a4
                have e9 := HPOS.out (by omega)
                obtain rfl := e9
                go_wp2_with fail
                refine (K _ (HT.out.keep (HB5.out.alloc HB5.out.size _))).out.mono ?_
                rintro e w6 ⟨rfl, hb⟩
                have HB6 := hide ((HB5.out.alloc HB5.out.size _).trans (hb.mono (by have := HB5.out.size; simp; omega)))
                clear hb
                go_wp2_with fail
                go_ret
                exact ⟨rfl, HB6.out⟩
          · have e1 : (x == 0) = false := by simpa using a2
            by_cases a3 : n < 0
            · have e2 : (n == 0) = false := by simp; omega
              have e9 := HNEG.out (by omega)
              obtain rfl := e9
              go_wp2_with fail
              refine (K _ (HT.out.keep (HB5.out.alloc HB5.out.size _))).out.mono ?_
              rintro e w6 ⟨rfl, hb⟩
              have HB6 := hide ((HB5.out.alloc HB5.out.size _).trans (hb.mono (by have := HB5.out.size; simp; omega)))
              clear hb
              go_wp2_with fail
              go_ret
              exact ⟨rfl, HB6.out⟩
            · by_cases a4 : n = 0
              · subst a4
                have e9 := HPOS.out (by omega)
                obtain rfl := e9
                go_wp2_with fail
                refine (K _ (HT.out.keep (HB5.out.alloc HB5.out.size _))).out.mono ?_
                rintro e w6 ⟨rfl, hb⟩
                have HB6 := hide ((HB5.out.alloc HB5.out.size _).trans (hb.mono (by have := HB5.out.size; simp; omega)))
                clear hb
                go_wp2_with fail
                go_ret
                exact ⟨rfl, HB6.out⟩
              · have e2 : (n == 0) = false := by simpa using a4
                have e9 := HPOS.out (by omega)
                obtain rfl := e9
                go_wp2_with fail
                refine (K _ (HT.out.keep (HB5.out.alloc HB5.out.size _))).out.mono ?_
                rintro e w6 ⟨rfl, hb⟩
                have HB6 := hide ((HB5.out.alloc HB5.out.size _).trans (hb.mono (by have := HB5.out.size; simp; omega)))
                clear hb
                go_wp2_with fail
                go_ret
                exact ⟨rfl, HB6.out⟩

theorem fractionRounding_walk (a0_0 a0_1 : Int) (a1 : Int) (w : World) (w0_0 : (Lit.int .i64 a0_0).wf = true) (w0_1 : (Lit.int .i64 a0_1).wf = true) (w1 : (Lit.int .i64 a1).wf = true) (hL : laidMetH Tryd.prog laid w) :
    Calls Tryd.prog 9 #[.agg #[.int .i64 a0_0, .int .i64 a0_1], .int .i64 a1] w fun e w' => e = .returned (.bool true) ∧ Below w.heap.size w w' := by
  have T := tabs_of hL
  have i0 := wf64 w0_0
  have i1 := wf64 w0_1
  have i2 := wf64 w1
  by_cases h0 : ofE a0_0 a0_1 a1 0 = 0
  · by_cases h1 : ofE a0_0 a0_1 a1 1 = 0
    · by_cases h2 : ofE a0_0 a0_1 a1 2 = 0
      · by_cases h3 : ofE a0_0 a0_1 a1 3 = 0
        · exact rd_yes _ _ _ w T i0 i1 i2 h0 h1 h2 h3
        · exact rd_no3 _ _ _ w T i0 i1 i2 h0 h1 h2 h3
      · exact rd_no2 _ _ _ w T i0 i1 i2 h0 h1 h2
    · exact rd_no1 _ _ _ w T i0 i1 i2 h0 h1
  · exact rd_no0 _ _ _ w T i0 i1 i2 h0
end Go.Proofs.YtmdgjgeblplhpaaDoor
