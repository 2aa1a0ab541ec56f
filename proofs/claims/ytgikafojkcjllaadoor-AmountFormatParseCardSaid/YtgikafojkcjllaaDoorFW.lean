/-
  The reference's digits at this translation.
-/
import Derived.Test.YtgikafojkcjllaaDoorFV
import Derived.Test.YtgikafojkcjllaaDoorInv
import Derived.Deep.Light
import Derived.WalkKit
namespace Go.Proofs.YtgikafojkcjllaaDoor
open Go.RowKit
set_option linter.unusedVariables false
set_option linter.unusedSimpArgs false

/-- A slice of one byte, made since. -/
def OneB (c : Int) (w : World) (v : Value) : Prop := ∃ b, v = .slice (some ⟨b, 0, none⟩) 1 1 ∧ b < w.heap.size ∧ w.cell? ⟨b, 0, none⟩ = some (.int .u8 c)
theorem OneB.keep {c : Int} {w y : World} {v : Value} (h : OneB c w v) (hb : Below w.heap.size w y) : OneB c y v := by
  obtain ⟨b, e, h1, h2⟩ := h
  exact ⟨b, e, Nat.lt_of_lt_of_le h1 hb.size, (hb.cell (p := ⟨b, 0, none⟩) h1).trans h2⟩
theorem conv1 (W : World) (b : Nat) (c : Nat) (hc : c < 256) (h : W.cell? ⟨b, 0, none⟩ = some (.int .u8 (c : Int))) : (convert 36 9 (.slice (some ⟨b, 0, none⟩) 1 1)).run Tryd.prog W = .ok (.string ⟨#[UInt8.ofNat c]⟩) W :=
  run_convert_bytes_back (P := Tryd.prog) W 36 9 5 ⟨b, 0, none⟩ 1 [UInt8.ofNat c] Tryd.underlying36 Tryd.underlying5 Tryd.underlying9 (fun j hj => by
    have : j = 0 := by simp at hj; omega
    subst this
    rw [Lib.add_plain]
    rw [show ([UInt8.ofNat c][0] : UInt8).toNat = c by simp [UInt8.toNat_ofNat']; omega]
    exact h)
theorem one_row (w : World) (c : Int) : OneB c (w.alloc (.cells #[.int .u8 c] 5)) (.slice (some ⟨w.heap.size, 0, none⟩) 1 1) := ⟨_, rfl, by simp, by simp [go_sem]⟩
theorem blk1 (w : World) (o : Obj) : Below w.heap.size w (w.alloc o) := (Below.refl _ _).alloc (Nat.le_refl _) o
theorem dd_small (n : Nat) (h : n < 10) : Lib.decDigits n = [UInt8.ofNat (48 + n)] := by
  rw [Lib.decDigits]
  simp [h]
theorem dd_big (n : Nat) (h : ¬ n < 10) : Lib.decDigits n = Lib.decDigits (n / 10) ++ [UInt8.ofNat (48 + n % 10)] := by
  rw [Lib.decDigits]
  simp [h]
set_option maxHeartbeats 4000000 in
set_option maxRecDepth 20000 in
theorem dig_small (n : Nat) (h : n < 10) (w : World) : Calls Tryd.prog 15 #[.int .i64 (n : Int)] w fun e w' => e = .returned (.string ⟨(Lib.decDigits n).toArray⟩) ∧ Below w.heap.size w w' := by
  rw [dd_small n h]
  have h1 : (n : Int) < 10 := by omega
  have cv := conv1 (w.alloc (.cells #[.int .u8 (48 + (n : Int))] 5)) w.heap.size (48 + n) (by omega) (by simp [go_sem])
  have HB := hide (blk1 w (.cells #[.int .u8 (48 + (n : Int))] 5))
  have eT : (⟨[UInt8.ofNat (48 + n)].toArray⟩ : ByteArray) = ⟨#[UInt8.ofNat (48 + n)]⟩ := rfl
  rw [eT]
  clear eT
  generalize (⟨#[UInt8.ofNat (48 + n)]⟩ : ByteArray) = T at *
  go_enter Tryd.func15, Tryd.ntmps15
  go_wp2_with fail
  go_ret
  exact ⟨rfl, HB.out⟩
set_option maxHeartbeats 4000000 in
set_option maxRecDepth 20000 in
theorem dig_big (n : Nat) (h : ¬ n < 10) (hn : n ≤ 1000000000000000) (w : World) (ih : ∀ w, Calls Tryd.prog 15 #[.int .i64 (n / 10 : Nat)] w fun e w' => e = .returned (.string ⟨(Lib.decDigits (n / 10)).toArray⟩) ∧ Below w.heap.size w w') : Calls Tryd.prog 15 #[.int .i64 (n : Int)] w fun e w' => e = .returned (.string ⟨(Lib.decDigits n).toArray⟩) ∧ Below w.heap.size w w' := by
  have e10 : ((n / 10 : Nat) : Int) = (n : Int) / 10 := by omega
  rw [e10] at ih
  have sz : (⟨(Lib.decDigits (n / 10)).toArray⟩ : ByteArray).size ≤ 20 := by
    have h1 := Lib.nDigits_le20 (n / 10) (by omega)
    have h2 := Lib.decDigits_length (n / 10)
    simp [ByteArray.size]
    omega
  have AD0 : ∀ w : World, (Op.stringOp .add ⟨(Lib.decDigits (n / 10)).toArray⟩ ⟨#[UInt8.ofNat (48 + n % 10)]⟩).run Tryd.prog w = .ok (.string (⟨(Lib.decDigits (n / 10)).toArray⟩ ++ ⟨#[UInt8.ofNat (48 + n % 10)]⟩)) w := fun w => run_string_add w _ _ (by omega) (by have : (⟨#[UInt8.ofNat (48 + n % 10)]⟩ : ByteArray).size = 1 := rfl; omega)
  have CV := hide (fun wx b (hb2 : World.cell? wx ⟨b, 0, none⟩ = some (.int .u8 (48 + (n : Int) % 10))) => conv1 wx b (48 + n % 10) (by omega) (by rw [hb2]; congr 2))
  have es : (⟨(Lib.decDigits n).toArray⟩ : ByteArray) = ⟨(Lib.decDigits (n / 10)).toArray⟩ ++ ⟨#[UInt8.ofNat (48 + n % 10)]⟩ := by
    rw [dd_big n h]
    apply ByteArray.ext
    rw [ByteArray.data_append]
    simp
  rw [es]
  have AD := hide AD0
  have IH := fun w => hide (ih w)
  have h1 : ¬ ((n : Int) < 10) := by omega
  clear AD0 es ih e10 sz h
  generalize (⟨(Lib.decDigits (n / 10)).toArray⟩ : ByteArray) = DG at *
  generalize (⟨#[UInt8.ofNat (48 + n % 10)]⟩ : ByteArray) = CH at *
  generalize (DG ++ CH : ByteArray) = SM at *
  go_enter Tryd.func15, Tryd.ntmps15
  go_wp2_with fail
  refine wp_region_inv (I := fun f q wx => ∃ v2 v10 v11 v12 v13 v14 v15 v16 v17 v18 v19 : Value, q = { tmps := #[Value.int .i64 (n : Int), undef, v2, Value.int .i64 (n : Int), Value.bool false, undef, undef, undef, undef, undef, v10, v11, v12, v13, v14, v15, v16, v17, v18, v19], defers := [] } ∧ Hid (Below w.heap.size w wx) ∧ Hid (f 0 = true → v10 = .int .i64 (n : Int)) ∧ Hid (f 1 = true → v11 = .int .i64 ((n : Int) / 10)) ∧ Hid (f 2 = true → v12 = .string DG) ∧ Hid (f 3 = true → v13 = .int .i64 (n : Int)) ∧ Hid (f 4 = true → v14 = .int .i64 ((n : Int) % 10)) ∧ Hid (f 5 = true → v15 = .int .i64 (48 + (n : Int) % 10)) ∧ Hid (f 6 = true → v16 = .int .u8 (48 + (n : Int) % 10)) ∧ Hid (f 7 = true → OneB (48 + (n : Int) % 10) wx v17) ∧ Hid (f 8 = true → v18 = .string CH) ∧ Hid (f 9 = true → v19 = .string SM) ∧ Hid (f 10 = true → v2 = .string SM)) (by kernel_rfl) (by kernel_rfl) ?_ ?_ ?_
  · exact ⟨_, _, _, _, _, _, _, _, _, _, _, rfl, hide ((Below.refl _ _).drew), hide (fun h => Bool.noConfusion h), hide (fun h => Bool.noConfusion h), hide (fun h => Bool.noConfusion h), hide (fun h => Bool.noConfusion h), hide (fun h => Bool.noConfusion h), hide (fun h => Bool.noConfusion h), hide (fun h => Bool.noConfusion h), hide (fun h => Bool.noConfusion h), hide (fun h => Bool.noConfusion h), hide (fun h => Bool.noConfusion h), hide (fun h => Bool.noConfusion h)⟩
  · intro i hi f q wx hfi hB hI
    obtain ⟨v2, v10, v11, v12, v13, v14, v15, v16, v17, v18, v19, rfl, HR, F0, F1, F2, F3, F4, F5, F6, F7, F8, F9, F10⟩ := hI
    have hin : i < 11 := hi
    have hic : i = 0 ∨ i = 1 ∨ i = 2 ∨ i = 3 ∨ i = 4 ∨ i = 5 ∨ i = 6 ∨ i = 7 ∨ i = 8 ∨ i = 9 ∨ i = 10 := by omega
    clear hi hin
    rcases hic with rfl | rfl | rfl | rfl | rfl | rfl | rfl | rfl | rfl | rfl | rfl
    · skip
      refine wpOp_list' (o := _) rfl (fun K hK => ?_)
      go_wp2_with fail
      exact hK.out _ _ ⟨_, _, _, _, _, _, _, _, _, _, _, rfl, HR, hide (fun _ => rfl), F1, F2, F3, F4, F5, F6, F7, F8, F9, F10⟩
    · skip
      have d0 := F0.out (hB.dep 0 (by kernel_rfl))
      rw [d0]
      clear d0
      refine wpOp_list' (o := _) rfl (fun K hK => ?_)
      go_wp2_with fail
      exact hK.out _ _ ⟨_, _, _, _, _, _, _, _, _, _, _, rfl, HR, hide (fun _ => rfl), hide (fun _ => rfl), F2, F3, F4, F5, F6, F7, F8, F9, F10⟩
    · skip
      have d1 := F1.out (hB.dep 1 (by kernel_rfl))
      rw [d1]
      clear d1
      refine wpOp_list' (o := _) rfl (fun K hK => ?_)
      go_wp2_with fail
      refine ((IH _).out).mono ?_
      rintro e wy ⟨rfl, hb⟩
      go_wp2_with fail
      have hbl := hb
      have HR := hide (HR.out.trans (hbl.mono HR.out.size))
      exact hK.out _ _ ⟨_, _, _, _, _, _, _, _, _, _, _, rfl, HR, F0, hide (fun _ => rfl), hide (fun _ => rfl), F3, F4, F5, F6, hide (fun h => (F7.out h).keep hbl), F8, F9, F10⟩
    · skip
      refine wpOp_list' (o := _) rfl (fun K hK => ?_)
      go_wp2_with fail
      exact hK.out _ _ ⟨_, _, _, _, _, _, _, _, _, _, _, rfl, HR, F0, F1, F2, hide (fun _ => rfl), F4, F5, F6, F7, F8, F9, F10⟩
    · skip
      have d3 := F3.out (hB.dep 3 (by kernel_rfl))
      rw [d3]
      clear d3
      refine wpOp_list' (o := _) rfl (fun K hK => ?_)
      go_wp2_with fail
      exact hK.out _ _ ⟨_, _, _, _, _, _, _, _, _, _, _, rfl, HR, F0, F1, F2, hide (fun _ => rfl), hide (fun _ => rfl), F5, F6, F7, F8, F9, F10⟩
    · skip
      have d4 := F4.out (hB.dep 4 (by kernel_rfl))
      rw [d4]
      clear d4
      refine wpOp_list' (o := _) rfl (fun K hK => ?_)
      go_wp2_with fail
      exact hK.out _ _ ⟨_, _, _, _, _, _, _, _, _, _, _, rfl, HR, F0, F1, F2, F3, hide (fun _ => rfl), hide (fun _ => rfl), F6, F7, F8, F9, F10⟩
    · skip
      have d5 := F5.out (hB.dep 5 (by kernel_rfl))
      rw [d5]
      clear d5
      refine wpOp_list' (o := _) rfl (fun K hK => ?_)
      go_wp2_with fail
      exact hK.out _ _ ⟨_, _, _, _, _, _, _, _, _, _, _, rfl, HR, F0, F1, F2, F3, F4, hide (fun _ => rfl), hide (fun _ => rfl), F7, F8, F9, F10⟩
    · skip
      have d6 := F6.out (hB.dep 6 (by kernel_rfl))
      rw [d6]
      clear d6
      refine wpOp_list' (o := _) rfl (fun K hK => ?_)
      go_wp2_with fail
      have hbl := blk1 wx (.cells #[.int .u8 (48 + (n : Int) % 10)] 5)
      have HR := hide (HR.out.trans (hbl.mono HR.out.size))
      exact hK.out _ _ ⟨_, _, _, _, _, _, _, _, _, _, _, rfl, HR, F0, F1, F2, F3, F4, F5, hide (fun _ => rfl), hide (fun _ => one_row wx _), F8, F9, F10⟩
    · skip
      have d7 := F7.out (hB.dep 7 (by kernel_rfl))
      refine wpOp_list' (o := _) rfl (fun K hK => ?_)
      obtain ⟨b, rfl, hb1, hb2⟩ := d7
      have cv := CV.out wx b hb2
      go_wp2_with fail
      exact hK.out _ _ ⟨_, _, _, _, _, _, _, _, _, _, _, rfl, HR, F0, F1, F2, F3, F4, F5, F6, F7, hide (fun _ => rfl), F9, F10⟩
    · skip
      have d2 := F2.out (hB.dep 2 (by kernel_rfl))
      rw [d2]
      clear d2
      have d8 := F8.out (hB.dep 8 (by kernel_rfl))
      rw [d8]
      clear d8
      refine wpOp_list' (o := _) rfl (fun K hK => ?_)
      have r1 := AD.out
      go_wp2_with fail
      exact hK.out _ _ ⟨_, _, _, _, _, _, _, _, _, _, _, rfl, HR, F0, F1, hide (fun _ => rfl), F3, F4, F5, F6, F7, hide (fun _ => rfl), hide (fun _ => rfl), F10⟩
    · skip
      have d9 := F9.out (hB.dep 9 (by kernel_rfl))
      rw [d9]
      clear d9
      refine wpOp_list' (o := _) rfl (fun K hK => ?_)
      go_wp2_with fail
      exact hK.out _ _ ⟨_, _, _, _, _, _, _, _, _, _, _, rfl, HR, F0, F1, F2, F3, F4, F5, F6, F7, F8, hide (fun _ => rfl), hide (fun _ => rfl)⟩
  · intro f q wx hall hI
    obtain ⟨v2, v10, v11, v12, v13, v14, v15, v16, v17, v18, v19, rfl, HR, F0, F1, F2, F3, F4, F5, F6, F7, F8, F9, F10⟩ := hI
    have e2 := F10.out (hall 10 (by decide))
    rw [e2]
    clear e2 F0 F1 F2 F3 F4 F5 F6 F7 F8 F9 F10 hall
    go_wp2_with fail
    go_ret
    exact ⟨rfl, HR.out⟩
theorem dig_any : ∀ (n : Nat), n ≤ 1000000000000000 → ∀ w, Calls Tryd.prog 15 #[.int .i64 (n : Int)] w fun e w' => e = .returned (.string ⟨(Lib.decDigits n).toArray⟩) ∧ Below w.heap.size w w' := by
  intro n
  induction n using Nat.strongRecOn with
  | ind n ih =>
    intro hn w
    by_cases h : n < 10
    · exact dig_small n h w
    · exact dig_big n h hn w (ih (n / 10) (by omega) (by omega))
end Go.Proofs.YtgikafojkcjllaaDoor
