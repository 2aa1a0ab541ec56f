/-
  The example of the chapter on Split at this translation: the shares of ten in three equal parts.
-/
import Derived.Test.YtmdgjgeblplhpaaDoorFr13
namespace Go.Proofs.YtmdgjgeblplhpaaDoor
open Go.RowKit Go.Sort
set_option linter.unusedVariables false

/-- The numbers below three as values. -/
def enc3 (i : Fin 3) : Value := .int .i64 (i.val : Int)
def cf3 (i j : Fin 3) : Int := cfV 1 1 (i.val : Int) (j.val : Int)
theorem cf3_val (i j : Fin 3) : cf3 i j = if i.val < j.val then -1 else if j.val < i.val then 1 else 0 := by
  unfold cf3 cfV
  rw [if_pos (show cmpV 1 1 = 0 by decide)]
  unfold cmpI
  by_cases h : i.val < j.val
  · rw [if_pos (by omega), if_pos h]
  · by_cases g : j.val < i.val
    · rw [if_neg (by omega), if_pos (by omega), if_neg h, if_pos g]
    · rw [if_neg (by omega), if_neg (by omega), if_neg h, if_neg g]
theorem lt3 (i j : Fin 3) : ltOf cf3 i j = decide (i.val < j.val) := by
  unfold ltOf
  rw [cf3_val]
  apply decide_eq_decide.2
  split
  · omega
  · split <;> omega
theorem swo3 : SWO (ltOf cf3) := by
  refine ⟨fun x => by rw [lt3]; simp, fun x y z a b => ?_, fun x y z a b => ?_⟩
  · rw [lt3] at *; simp at *; omega
  · rw [lt3] at *; simp at *; omega

theorem alloc_grow (w : World) (o : Obj) : w.drew.alloc o = Go.Sort.grow (w.drewN 1) #[o] := by
  show ({ w.drew with heap := w.drew.heap.push o } : World) = { w.drewN 1 with heap := (w.drewN 1).heap ++ #[o] }
  rw [← Array.push_eq_append]
  rfl

theorem sortW_cell {enc : Fin 3 → Value} {w : World} {blk m : Nat} {dk : Array (Fin 3)} {os : Array Obj} {a : Addr} (ha : a.block < w.heap.size) (hne : a.block ≠ blk) : (sortWorld enc w blk 0 m dk os).cell? a = w.cell? a := by
  unfold sortWorld
  rw [cell?_grow _ _ _ (by simpa using ha), cell?_putRow_other _ _ _ _ _ _ (.inl hne)]
  rfl
theorem sortW_size {enc : Fin 3 → Value} {w : World} {blk m : Nat} {dk : Array (Fin 3)} {os : Array Obj} : w.heap.size ≤ (sortWorld enc w blk 0 m dk os).heap.size := by
  unfold sortWorld
  simp [Go.Sort.grow]

theorem lays3 (w : World) (ob rb cb : Nat) (l1 : rb < w.heap.size) (l2 : cb < w.heap.size) (n1 : rb ≠ ob) (n2 : cb ≠ ob) (hs : w.cell? ⟨cb, 0, none⟩ = some (.slice (some ⟨rb, 0, none⟩) 3 3)) (hr : Row3 rb 1 1 1 w) :
    CmpLays1 Tryd.prog 56 #[.pointer (some ⟨cb, 0, none⟩)] enc3 cf3 ob 0 3 w := by
  intro m os dk hk x y
  have hc : ∀ i : Fin 3, w.cell? ⟨rb, i.val, none⟩ = some (.int .i64 1) := by
    intro i
    match i with
    | ⟨0, _⟩ => exact hr.1
    | ⟨1, _⟩ => exact hr.2.1
    | ⟨2, _⟩ => exact hr.2.2
  have sz := sortW_size (enc := enc3) (w := w) (blk := ob) (m := m) (dk := dk) (os := os)
  refine (clo_any cb rb 3 (x.val : Int) (y.val : Int) 1 1 _ (by omega) (by have := x.isLt; omega) (by omega) (by have := y.isLt; omega) (by decide) (by omega) (by omega) ?_ ?_ ?_).mono ?_
  · rw [sortW_cell (by exact l2) (by exact n2)]; exact hs
  · rw [sortW_cell (by exact l1) (by exact n1)]; exact hc x
  · rw [sortW_cell (by exact l1) (by exact n1)]; exact hc y
  · rintro e w' ⟨rfl, rfl⟩
    exact ⟨rfl, 1, _, alloc_grow _ _⟩

theorem sort3 (w : World) (ob rb cb : Nat) (l0 : ob < w.heap.size) (l1 : rb < w.heap.size) (l2 : cb < w.heap.size) (n1 : rb ≠ ob) (n2 : cb ≠ ob) (hs : w.cell? ⟨cb, 0, none⟩ = some (.slice (some ⟨rb, 0, none⟩) 3 3)) (hr : Row3 rb 1 1 1 w)
    (ho : Row3 ob 0 1 2 w) (hf : Free3 ob w) :
    Calls Tryd.prog 55 #[.slice (some ⟨ob, 0, none⟩) 3 3, .func (.func 56) #[] #[.pointer (some ⟨cb, 0, none⟩)]] w fun e w' => e = .returned (.tuple #[]) ∧ Below w.heap.size w w' := by
  have hH : Holds enc3 w ob 0 #[(0 : Fin 3), 1, 2] := by
    intro j hj
    have h3 : j < 3 := hj
    have : j = 0 ∨ j = 1 ∨ j = 2 := by omega
    rcases this with rfl | rfl | rfl
    · exact ⟨ho.1, hf.1⟩
    · exact ⟨ho.2.1, hf.2.1⟩
    · exact ⟨ho.2.2, hf.2.2⟩
  refine (Tryd.slices_SortFunc_total enc3 (fun _ => rfl) cf3 swo3 56 #[.pointer (some ⟨cb, 0, none⟩)] ob 0 3 #[(0 : Fin 3), 1, 2] w (enters_of Tryd.func56 (by kernel_rfl) rfl) (lays3 w ob rb cb l1 l2 n1 n2 hs hr) hH l0 (by decide) ?_).mono ?_
  · intro x y a b
    rw [lt3] at a b
    simp at a b
    exact Fin.ext (by omega)
  · rintro e w' ⟨rfl, n, os, rfl⟩
    refine ⟨rfl, ?_⟩
    have hd : ((#[(0 : Fin 3), 1, 2].toList).mergeSort fun x y => !(ltOf cf3) y x).toArray = #[(0 : Fin 3), 1, 2] := by
      congr 1
      apply List.mergeSort_of_pairwise
      simp only [lt3]
      decide
    rw [hd]
    unfold sortWorld
    rw [putRow_ahead, putRow_self enc3 w ob 0 _ hH]
    exact below_grow (below_draw (Below.refl _ _) n) (Nat.le_refl _) os
/-- The memory of shares in round k: the parts, the remainders and the order. -/
structure Mem3 (w0 : Nat) (k : Nat) (w : World) : Prop where
  par : Row3 w0 (if 0 < k then 3 else 0) (if 1 < k then 3 else 0) (if 2 < k then 3 else 0) w
  rem : Row3 (w0 + 1) (if 0 < k then 1 else 0) (if 1 < k then 1 else 0) (if 2 < k then 1 else 0) w
  ord : Row3 (w0 + 1 + 1 + 1) 0 (if 1 < k then 1 else 0) (if 2 < k then 2 else 0) w
  cap : w.cell? ⟨w0 + 1 + 1, 0, none⟩ = some (.slice (some ⟨w0 + 1, 0, none⟩) 3 3)
  fpar : Free3 w0 w
  frem : Free3 (w0 + 1) w
  ford : Free3 (w0 + 1 + 1 + 1) w
  size : w0 + 4 ≤ w.heap.size
theorem Mem3.keep {w0 k : Nat} {w w' : World} (h : Mem3 w0 k w) (hb : Below w.heap.size w w') : Mem3 w0 k w' := by
  have := h.size
  exact ⟨h.par.keep hb (by omega), h.rem.keep hb (by omega), h.ord.keep hb (by omega), by rw [hb.cell (by show w0 + 1 + 1 < _; omega)]; exact h.cap, h.fpar.keep hb (by omega), h.frem.keep hb (by omega), h.ford.keep hb (by omega), Nat.le_trans h.size hb.size⟩

theorem mem0 (w : World) : Mem3 w.heap.size 0 ((((w.alloc (.cells #[.int .i64 0, .int .i64 0, .int .i64 0] 2)).alloc (.cells #[.int .i64 0, .int .i64 0, .int .i64 0] 2)).alloc (.cells #[.slice (some ⟨w.heap.size + 1, 0, none⟩) 3 3] 50)).alloc (.cells #[.int .i64 0, .int .i64 0, .int .i64 0] 3)) := by
  refine ⟨⟨?_, ?_, ?_⟩, ⟨?_, ?_, ?_⟩, ⟨?_, ?_, ?_⟩, ?_, ⟨?_, ?_, ?_⟩, ⟨?_, ?_, ?_⟩, ⟨?_, ?_, ?_⟩, ?_⟩ <;> simp [go_sem]

theorem mem1 (w : World) (w0 : Nat) (h : Mem3 w0 0 w) : Mem3 w0 1 ((((w.setCell ⟨w0, 0, none⟩ (.int .i64 3)).setCell ⟨w0 + 1, 0, none⟩ (.int .i64 1)).setCell ⟨w0 + 1 + 1 + 1, 0, none⟩ (.int .i64 0)).drew) := by
  obtain ⟨⟨P0, P1, P2⟩, ⟨R0, R1, R2⟩, ⟨O0, O1, O2⟩, cp, ⟨f0, f1, f2⟩, ⟨g0, g1, g2⟩, ⟨h0, h1, h2⟩, sz⟩ := h
  simp at P0 P1 P2 R0 R1 R2 O0 O1 O2
  refine ⟨⟨?_, ?_, ?_⟩, ⟨?_, ?_, ?_⟩, ⟨?_, ?_, ?_⟩, ?_, ⟨?_, ?_, ?_⟩, ⟨?_, ?_, ?_⟩, ⟨?_, ?_, ?_⟩, ?_⟩ <;> simp [go_sem, P0, P1, P2, R0, R1, R2, O0, O1, O2, cp, f0, f1, f2, g0, g1, g2, h0, h1, h2, sz]
theorem mem2 (w : World) (w0 : Nat) (h : Mem3 w0 1 w) : Mem3 w0 2 ((((w.setCell ⟨w0, 1, none⟩ (.int .i64 3)).setCell ⟨w0 + 1, 1, none⟩ (.int .i64 1)).setCell ⟨w0 + 1 + 1 + 1, 1, none⟩ (.int .i64 1)).drew) := by
  obtain ⟨⟨P0, P1, P2⟩, ⟨R0, R1, R2⟩, ⟨O0, O1, O2⟩, cp, ⟨f0, f1, f2⟩, ⟨g0, g1, g2⟩, ⟨h0, h1, h2⟩, sz⟩ := h
  simp at P0 P1 P2 R0 R1 R2 O0 O1 O2
  refine ⟨⟨?_, ?_, ?_⟩, ⟨?_, ?_, ?_⟩, ⟨?_, ?_, ?_⟩, ?_, ⟨?_, ?_, ?_⟩, ⟨?_, ?_, ?_⟩, ⟨?_, ?_, ?_⟩, ?_⟩ <;> simp [go_sem, P0, P1, P2, R0, R1, R2, O0, O1, O2, cp, f0, f1, f2, g0, g1, g2, h0, h1, h2, sz]
theorem mem3 (w : World) (w0 : Nat) (h : Mem3 w0 2 w) : Mem3 w0 3 ((((w.setCell ⟨w0, 2, none⟩ (.int .i64 3)).setCell ⟨w0 + 1, 2, none⟩ (.int .i64 1)).setCell ⟨w0 + 1 + 1 + 1, 2, none⟩ (.int .i64 2)).drew) := by
  obtain ⟨⟨P0, P1, P2⟩, ⟨R0, R1, R2⟩, ⟨O0, O1, O2⟩, cp, ⟨f0, f1, f2⟩, ⟨g0, g1, g2⟩, ⟨h0, h1, h2⟩, sz⟩ := h
  simp at P0 P1 P2 R0 R1 R2 O0 O1 O2
  refine ⟨⟨?_, ?_, ?_⟩, ⟨?_, ?_, ?_⟩, ⟨?_, ?_, ?_⟩, ?_, ⟨?_, ?_, ?_⟩, ⟨?_, ?_, ?_⟩, ⟨?_, ?_, ?_⟩, ?_⟩ <;> simp [go_sem, P0, P1, P2, R0, R1, R2, O0, O1, O2, cp, f0, f1, f2, g0, g1, g2, h0, h1, h2, sz]

set_option maxHeartbeats 4000000 in
set_option maxRecDepth 20000 in
theorem shares3 (b : Nat) (w : World) (h : Row3 b 1 1 1 w) (hl : b < w.heap.size) :
    Calls Tryd.prog 44 #[.int .i64 10, .slice (some ⟨b, 0, none⟩) 3 3, .int .i64 3] w fun e w' => e = .returned (.tuple #[.slice (some ⟨w.heap.size, 0, none⟩) 3 3, .int .i64 0]) ∧ Below w.heap.size w w' ∧ Row3 w.heap.size 4 3 3 w' ∧ Free3 w.heap.size w' ∧ w.heap.size < w'.heap.size := by
  have MR := fun w => hide (mr10 w)
  have SO := sort3
  have HH := hide h
  clear h
  have hmf : ∀ (fn : Fn) (first cap : Array Value) (w : World), (Instr.makeFunc fn first cap).run Tryd.prog w = .ok (.func fn first cap) w := fun _ _ _ _ => rfl
  have mk1 : ∀ w, (Instr.makeSlice 50 (.int .i64 3) (.int .i64 3)).run Tryd.prog w = .ok (.slice (some ⟨w.heap.size, 0, none⟩) 3 3) (w.alloc (.cells #[.int .i64 0, .int .i64 0, .int .i64 0] 2)) := fun _ => by kernel_rfl
  have mk2 : ∀ w, (Instr.makeSlice 82 (.int .i64 3) (.int .i64 3)).run Tryd.prog w = .ok (.slice (some ⟨w.heap.size, 0, none⟩) 3 3) (w.alloc (.cells #[.int .i64 0, .int .i64 0, .int .i64 0] 3)) := fun _ => by kernel_rfl
  go_enter Tryd.func44, Tryd.ntmps44
  go_wp2_with fail
  have HM0 := hide (mem0 w)
  have HB0 := hide (show RowKit.Below w.heap.size w ((((w.alloc (.cells #[.int .i64 0, .int .i64 0, .int .i64 0] 2)).alloc (.cells #[.int .i64 0, .int .i64 0, .int .i64 0] 2)).alloc (.cells #[.slice (some ⟨w.heap.size + 1, 0, none⟩) 3 3] 50)).alloc (.cells #[.int .i64 0, .int .i64 0, .int .i64 0] 3)) from ((((Below.refl w.heap.size w).alloc (Nat.le_refl _) _).alloc (by simp) _).alloc (by simp; omega) _).alloc (by simp; omega) _)
  generalize hW : (((w.alloc (.cells #[.int .i64 0, .int .i64 0, .int .i64 0] 2)).alloc (.cells #[.int .i64 0, .int .i64 0, .int .i64 0] 2)).alloc (.cells #[.slice (some ⟨w.heap.size + 1, 0, none⟩) 3 3] 50)).alloc (.cells #[.int .i64 0, .int .i64 0, .int .i64 0] 3) = W at *
  go_loopw [31, 11] (fun i s wr => ∃ k : Nat, k ≤ 3 ∧ i = .int .i64 k ∧ s = .int .i64 (10 - 3 * k) ∧ Hid (RowKit.Below w.heap.size w wr) ∧ Hid (Mem3 w.heap.size k wr)) (fun i _ _ => 3 - (intOf i).toNat)
  case atStart => exact ⟨0, by decide, rfl, rfl, HB0, HM0⟩
  case round =>
    obtain ⟨k, hk, rfl, rfl, HB, HM⟩ := hrel
    have r0 := (HB.out.cell (p := ⟨b, 0, none⟩) hl).trans HH.out.1
    have r1 := (HB.out.cell (p := ⟨b, 1, none⟩) hl).trans HH.out.2.1
    have r2 := (HB.out.cell (p := ⟨b, 2, none⟩) hl).trans HH.out.2.2
    have h4 : k = 0 ∨ k = 1 ∨ k = 2 ∨ k = 3 := by omega
    rcases h4 with rfl | rfl | rfl | rfl
    · go_wp2_with fail
      refine (MR _).out.mono ?_
      rintro e w1 ⟨rfl, hb⟩
      have HB1 := hide (HB.out.trans (hb.mono HB.out.size))
      have HM1 := hide (HM.out.keep hb)
      obtain ⟨⟨P0, P1, P2⟩, ⟨R0, R1, R2⟩, ⟨O0, O1, O2⟩, cp, ⟨f0, f1, f2⟩, ⟨g0, g1, g2⟩, ⟨h0, h1, h2⟩, sz⟩ := HM.out.keep hb
      simp at P0 P1 P2 R0 R1 R2 O0 O1 O2
      clear hb
      go_wp2_with fail
      go_region
      go_wp2_with fail
      refine ⟨⟨1, by decide, rfl, rfl, hide (by have := HB1.out; repeat' (first | exact this | exact RowKit.Below.drew (by assumption) | refine Below.setCell ?_ ?_ _ | refine RowKit.Below.drew ?_ | omega | (simp; done) | (simp; omega))), hide (mem1 _ _ HM1.out)⟩, by simp [intOf]⟩
    · go_wp2_with fail
      refine (MR _).out.mono ?_
      rintro e w1 ⟨rfl, hb⟩
      have HB1 := hide (HB.out.trans (hb.mono HB.out.size))
      have HM1 := hide (HM.out.keep hb)
      obtain ⟨⟨P0, P1, P2⟩, ⟨R0, R1, R2⟩, ⟨O0, O1, O2⟩, cp, ⟨f0, f1, f2⟩, ⟨g0, g1, g2⟩, ⟨h0, h1, h2⟩, sz⟩ := HM.out.keep hb
      simp at P0 P1 P2 R0 R1 R2 O0 O1 O2
      clear hb
      go_wp2_with fail
      go_region
      go_wp2_with fail
      refine ⟨⟨2, by decide, rfl, rfl, hide (by have := HB1.out; repeat' (first | exact this | exact RowKit.Below.drew (by assumption) | refine Below.setCell ?_ ?_ _ | refine RowKit.Below.drew ?_ | omega | (simp; done) | (simp; omega))), hide (mem2 _ _ HM1.out)⟩, by simp [intOf]⟩
    · go_wp2_with fail
      refine (MR _).out.mono ?_
      rintro e w1 ⟨rfl, hb⟩
      have HB1 := hide (HB.out.trans (hb.mono HB.out.size))
      have HM1 := hide (HM.out.keep hb)
      obtain ⟨⟨P0, P1, P2⟩, ⟨R0, R1, R2⟩, ⟨O0, O1, O2⟩, cp, ⟨f0, f1, f2⟩, ⟨g0, g1, g2⟩, ⟨h0, h1, h2⟩, sz⟩ := HM.out.keep hb
      simp at P0 P1 P2 R0 R1 R2 O0 O1 O2
      clear hb
      go_wp2_with fail
      go_region
      go_wp2_with fail
      refine ⟨⟨3, by decide, rfl, rfl, hide (by have := HB1.out; repeat' (first | exact this | exact RowKit.Below.drew (by assumption) | refine Below.setCell ?_ ?_ _ | refine RowKit.Below.drew ?_ | omega | (simp; done) | (simp; omega))), hide (mem3 _ _ HM1.out)⟩, by simp [intOf]⟩
    · have HM3 : Mem3 w.heap.size 3 wr := HM.out
      have szr := HM3.size
      have e7 : (10 : Int) - 3 * ((3 : Nat) : Int) = 1 := by decide
      go_wp2_with fail
      refine (SO wr (w.heap.size + 1 + 1 + 1) (w.heap.size + 1) (w.heap.size + 1 + 1) (by omega) (by omega) (by omega) (by omega) (by omega) HM3.cap HM3.rem HM3.ord HM3.ford).mono ?_
      rintro e w1 ⟨rfl, hb⟩
      have HB1 := hide (HB.out.trans (hb.mono HB.out.size))
      have HM1 := HM3.keep hb
      obtain ⟨⟨P0, P1, P2⟩, ⟨R0, R1, R2⟩, ⟨O0, O1, O2⟩, cp, ⟨f0, f1, f2⟩, ⟨g0, g1, g2⟩, ⟨h0, h1, h2⟩, sz⟩ := HM1
      simp at P0 P1 P2 R0 R1 R2 O0 O1 O2
      clear hb HM3
      go_wp2_with fail
      go_loopw [70] (fun i wr' => (i = .int .i64 0 ∧ wr' = w1) ∨ (i = .int .i64 1 ∧ wr' = w1.setCell ⟨w.heap.size, 0, none⟩ (.int .i64 4))) (fun i _ => 1 - (intOf i).toNat)
      case atStart => exact .inl ⟨rfl, rfl⟩
      case round =>
        rcases hrel with ⟨rfl, rfl⟩ | ⟨rfl, rfl⟩
        · go_wp2_with fail
          exact ⟨.inr (by simp), by simp [intOf]⟩
        · go_wp2_with fail
          go_ret2
          refine ⟨rfl, (HB1.out.setCell (Nat.le_refl _) _), ⟨?_, ?_, ?_⟩, ⟨?_, ?_, ?_⟩, ?_⟩
          all_goals first | (simp [go_sem, P0, P1, P2, f0, f1, f2]; done) | (simp; omega)

theorem split3 (b : Nat) (w : World) (h : Row3 b 1 1 1 w) (hl : b < w.heap.size) :
    Calls Tryd.prog 26 #[.int .i64 10, .slice (some ⟨b, 0, none⟩) 3 3] w fun e w' => e = .returned (.tuple #[.slice (some ⟨w.heap.size, 0, none⟩) 3 3, .int .i64 0]) ∧ RowKit.Below w.heap.size w w' ∧ Row3 w.heap.size 4 3 3 w' ∧ Free3 w.heap.size w' ∧ w.heap.size < w'.heap.size := by
  have S := hide (sum3 b w h)
  have V1 := fun w => hide (valid_any 3 w)
  rw [okB_yes (by unfold okA; omega)] at V1
  have V2 := fun w => hide (valid_any 10 w)
  rw [okB_yes (by unfold okA; omega)] at V2
  have H := hide (shares3 b w h hl)
  clear h
  go_enter Tryd.func26, Tryd.ntmps26
  go_wp2_with fail
  refine S.out.mono ?_
  rintro e w1 ⟨rfl, rfl⟩
  go_wp2_with fail
  refine (V1 _).out.mono ?_
  rintro e w1 ⟨rfl, rfl⟩
  go_wp2_with fail
  refine (V2 _).out.mono ?_
  rintro e w1 ⟨rfl, rfl⟩
  go_wp2_with fail
  refine H.out.mono ?_
  rintro e w1 ⟨rfl, hb⟩
  have HB := hide hb
  clear hb
  go_wp2_with fail
  go_ret2
  exact ⟨rfl, HB.out⟩
end Go.Proofs.YtmdgjgeblplhpaaDoor
