/-
  The walk of FractionNew.
-/
import Derived.Test.YtmdgjgeblplhpaaDoorFrC
namespace Go.Proofs.YtmdgjgeblplhpaaDoor
open Go.RowKit
set_option linter.unusedVariables false

set_option maxHeartbeats 4000000 in
set_option maxRecDepth 20000 in
theorem fractionNew_walk (a0 : Int) (a1 : Int) (w : World) (w0 : (Lit.int .i64 a0).wf = true) (w1 : (Lit.int .i64 a1).wf = true) (hL : laidMetH Tryd.prog laid w) :
    Calls Tryd.prog 3 #[.int .i64 a0, .int .i64 a1] w fun e w' => e = .returned (.bool true) ∧ Below w.heap.size w w' := by
  have HT := hide (tabs_of hL)
  have i0 := wf64 w0
  have i1 := wf64 w1
  have NW := fun w => hide (new_any a0 a1 w i0 i1)
  have RN := fun w => hide (rnew_any a0 a1 w i0 i1)
  have K := fun w T => hide (known_any w T)
  have CK := fun (h : nwE a0 a1 = 0) w => hide (check_any (nwN a0 a1) (nwD a0 a1) w (by have := ck_ok (nw_ok h).2.2.1; omega) (by have := ck_ok (nw_ok h).2.2.1; omega) (by have := ck_ok (nw_ok h).2.2.1; omega) (by have := ck_ok (nw_ok h).2.2.1; omega))
  have CV := fun (h : nwE a0 a1 = 0) => (nw_ok h).2.2.1
  clear hL w0 w1 i0 i1
  generalize nwN a0 a1 = A at *
  generalize nwD a0 a1 = B at *
  generalize nwE a0 a1 = E at *
  by_cases hE : E = 0
  · have CC := CK hE
    rw [CV hE] at CC
    clear CV CK
    subst hE
    go_enter Tryd.func3, Tryd.ntmps3
    go_wp2_with fail
    refine (NW _).out.mono ?_
    rintro e w1 ⟨rfl, hb⟩
    have HB1 := hide hb
    clear hb
    go_wp2_with fail
    refine (RN _).out.mono ?_
    rintro e w2 ⟨rfl, hb⟩
    have c0 := (hb.cell (p := ⟨w1.heap.size, 0, none⟩) (by simp)).trans (show _ = some (Value.int .i64 A) by simp [go_sem])
    have c1 := (hb.cell (p := ⟨w1.heap.size, 1, none⟩) (by simp)).trans (show _ = some (Value.int .i64 B) by simp [go_sem])
    have z1 : w1.heap.size + 1 ≤ w2.heap.size := by have := hb.size; simp at this; omega
    have HB2 := hide (show Below w.heap.size w w2 from (HB1.out.alloc HB1.out.size _).trans (hb.mono (by have := HB1.out.size; simp; omega)))
    clear hb
    go_wp2_with fail
    have HBW := hide (show Below w.heap.size w (w2.alloc (Obj.cells #[Value.int IntKind.i64 A, Value.int IntKind.i64 B] 27)) from HB2.out.alloc HB2.out.size _)
    have f0 := (((Below.refl w2.heap.size w2).alloc (Nat.le_refl _) (Obj.cells #[Value.int IntKind.i64 A, Value.int IntKind.i64 B] 27)).cell (p := ⟨w1.heap.size, 0, none⟩) (by simp; omega)).trans c0
    have f1 := (((Below.refl w2.heap.size w2).alloc (Nat.le_refl _) (Obj.cells #[Value.int IntKind.i64 A, Value.int IntKind.i64 B] 27)).cell (p := ⟨w1.heap.size, 1, none⟩) (by simp; omega)).trans c1
    have f2 : (w2.alloc (Obj.cells #[Value.int IntKind.i64 A, Value.int IntKind.i64 B] 27)).cell? ⟨w2.heap.size, 0, none⟩ = some (Value.int .i64 A) := by simp [go_sem]
    have f3 : (w2.alloc (Obj.cells #[Value.int IntKind.i64 A, Value.int IntKind.i64 B] 27)).cell? ⟨w2.heap.size, 1, none⟩ = some (Value.int .i64 B) := by simp [go_sem]
    have zW : w2.heap.size + 1 ≤ (w2.alloc (Obj.cells #[Value.int IntKind.i64 A, Value.int IntKind.i64 B] 27)).heap.size := by simp
    generalize w2.alloc (Obj.cells #[Value.int IntKind.i64 A, Value.int IntKind.i64 B] 27) = W at *
    have k0 : ∀ y : Sub W, y.val.cell? ⟨w1.heap.size, 0, none⟩ = some (Value.int .i64 A) := fun y => (y.below.cell (p := ⟨w1.heap.size, 0, none⟩) (by simp; omega)).trans f0
    have k1 : ∀ y : Sub W, y.val.cell? ⟨w1.heap.size, 1, none⟩ = some (Value.int .i64 B) := fun y => (y.below.cell (p := ⟨w1.heap.size, 1, none⟩) (by simp; omega)).trans f1
    have k2 : ∀ y : Sub W, y.val.cell? ⟨w2.heap.size, 0, none⟩ = some (Value.int .i64 A) := fun y => (y.below.cell (p := ⟨w2.heap.size, 0, none⟩) (by simp; omega)).trans f2
    have k3 : ∀ y : Sub W, y.val.cell? ⟨w2.heap.size, 1, none⟩ = some (Value.int .i64 B) := fun y => (y.below.cell (p := ⟨w2.heap.size, 1, none⟩) (by simp; omega)).trans f3
    have KT : ∀ y : Sub W, Hid (Tabs y.val) := fun y => hide (HT.out.keep (HBW.out.trans (y.below.mono HBW.out.size)))
    refine wp_region_sub (w0 := W) (by kernel_rfl) (by kernel_rfl) (Below.refl _ _).drew ?_
    repeat (first | go_big_quiet_step ((first | (go_at_call 14; exact sub_of _ (to_any _ _ _)) | (go_at_call 15; exact sub_of _ (CC _).out) | (go_at_call 16; exact sub_of _ (K _ (KT _).out).out))) | quiet_step ((first | (go_at_call 14; exact sub_of _ (to_any _ _ _)) | (go_at_call 15; exact sub_of _ (CC _).out) | (go_at_call 16; exact sub_of _ (K _ (KT _).out).out))))
    refine wpQuiet_nil ?_
    rintro _ ⟨y, rfl⟩
    go_wp2_with fail
    go_ret
    exact ⟨rfl, HBW.out.trans (y.below.mono HBW.out.size)⟩
  · have e1 : (E == 0) = false := by simpa using hE
    have e2 : (E != 0) = true := by simpa using hE
    clear CK CV hE
    go_enter Tryd.func3, Tryd.ntmps3
    go_wp2_with fail
    refine (NW _).out.mono ?_
    rintro e w1 ⟨rfl, hb⟩
    have HB1 := hide hb
    clear hb
    go_wp2_with fail
    refine (RN _).out.mono ?_
    rintro e w2 ⟨rfl, hb⟩
    have c0 := (hb.cell (p := ⟨w1.heap.size, 0, none⟩) (by simp)).trans (show _ = some (Value.int .i64 A) by simp [go_sem])
    have c1 := (hb.cell (p := ⟨w1.heap.size, 1, none⟩) (by simp)).trans (show _ = some (Value.int .i64 B) by simp [go_sem])
    have z1 : w1.heap.size + 1 ≤ w2.heap.size := by have := hb.size; simp at this; omega
    have HB2 := hide (show Below w.heap.size w w2 from (HB1.out.alloc HB1.out.size _).trans (hb.mono (by have := HB1.out.size; simp; omega)))
    clear hb
    go_wp2_with fail
    have HBW := hide (show Below w.heap.size w (w2.alloc (Obj.cells #[Value.int IntKind.i64 A, Value.int IntKind.i64 B] 27)) from HB2.out.alloc HB2.out.size _)
    have f0 := (((Below.refl w2.heap.size w2).alloc (Nat.le_refl _) (Obj.cells #[Value.int IntKind.i64 A, Value.int IntKind.i64 B] 27)).cell (p := ⟨w1.heap.size, 0, none⟩) (by simp; omega)).trans c0
    have f1 := (((Below.refl w2.heap.size w2).alloc (Nat.le_refl _) (Obj.cells #[Value.int IntKind.i64 A, Value.int IntKind.i64 B] 27)).cell (p := ⟨w1.heap.size, 1, none⟩) (by simp; omega)).trans c1
    have f2 : (w2.alloc (Obj.cells #[Value.int IntKind.i64 A, Value.int IntKind.i64 B] 27)).cell? ⟨w2.heap.size, 0, none⟩ = some (Value.int .i64 A) := by simp [go_sem]
    have f3 : (w2.alloc (Obj.cells #[Value.int IntKind.i64 A, Value.int IntKind.i64 B] 27)).cell? ⟨w2.heap.size, 1, none⟩ = some (Value.int .i64 B) := by simp [go_sem]
    have zW : w2.heap.size + 1 ≤ (w2.alloc (Obj.cells #[Value.int IntKind.i64 A, Value.int IntKind.i64 B] 27)).heap.size := by simp
    generalize w2.alloc (Obj.cells #[Value.int IntKind.i64 A, Value.int IntKind.i64 B] 27) = W at *
    have k0 : ∀ y : Sub W, y.val.cell? ⟨w1.heap.size, 0, none⟩ = some (Value.int .i64 A) := fun y => (y.below.cell (p := ⟨w1.heap.size, 0, none⟩) (by simp; omega)).trans f0
    have k1 : ∀ y : Sub W, y.val.cell? ⟨w1.heap.size, 1, none⟩ = some (Value.int .i64 B) := fun y => (y.below.cell (p := ⟨w1.heap.size, 1, none⟩) (by simp; omega)).trans f1
    have k2 : ∀ y : Sub W, y.val.cell? ⟨w2.heap.size, 0, none⟩ = some (Value.int .i64 A) := fun y => (y.below.cell (p := ⟨w2.heap.size, 0, none⟩) (by simp; omega)).trans f2
    have k3 : ∀ y : Sub W, y.val.cell? ⟨w2.heap.size, 1, none⟩ = some (Value.int .i64 B) := fun y => (y.below.cell (p := ⟨w2.heap.size, 1, none⟩) (by simp; omega)).trans f3
    have KT : ∀ y : Sub W, Hid (Tabs y.val) := fun y => hide (HT.out.keep (HBW.out.trans (y.below.mono HBW.out.size)))
    refine wp_region_sub (w0 := W) (by kernel_rfl) (by kernel_rfl) (Below.refl _ _).drew ?_
    repeat (first | go_big_quiet_step ((first | (go_at_call 14; exact sub_of _ (to_any _ _ _)) | (go_at_call 16; exact sub_of _ (K _ (KT _).out).out))) | quiet_step ((first | (go_at_call 14; exact sub_of _ (to_any _ _ _)) | (go_at_call 16; exact sub_of _ (K _ (KT _).out).out))))
    refine wpQuiet_nil ?_
    rintro _ ⟨y, rfl⟩
    go_wp2_with fail
    go_ret
    exact ⟨rfl, HBW.out.trans (y.below.mono HBW.out.size)⟩
end Go.Proofs.YtmdgjgeblplhpaaDoor
