/-
  Contract of cut: at most twenty payloads of at most two hundred bytes.
-/
import Derived.Test.YtgjdaipofekjfaaRE
namespace Go.Proofs.Ytgjdaipofekjfaa
open Go.RowKit
set_option linter.unusedVariables false
set_option linter.unusedSimpArgs false
set_option linter.unnecessarySimpa false

/-- What cut leaves. -/
def Sm (L : List (List Nat)) : Prop := L.length ≤ 20 ∧ ∀ p ∈ L, p.length ≤ 200
def CuP (w : World) (e : Ending) (w' : World) : Prop := ∃ v L, e = .returned v ∧ Sm L ∧ OwL w' w.heap.size v L ∧ Below w.heap.size w w'

set_option maxHeartbeats 4000000 in
set_option maxRecDepth 100000 in
theorem cut_any (a : Option Addr) (len cap : Nat) (w : World) (h : IsRows w a len cap) : Calls Try.prog 16 #[.slice a len cap] w (CuP w) := by
  have hlen : (len : Int) ≤ 9223372036854775807 := by
    rcases h with ⟨_, rfl, _⟩ | ⟨x, A, L, C, Z, rfl, h1, h2, h3⟩
    · decide
    · unfold maxLen at h2; omega
  have HA := fun k hk => hide (h.at (k := k) hk)
  clear h
  go_enter Try.func16, Try.ntmps16
  go_wp2_with fail
  go_loopw [3, 4] (fun v i wr => ∃ k : Nat, k ≤ 20 ∧ i = .int .i64 k ∧ (∃ L, Hid (OwL wr w.heap.size v L ∧ L.length = k ∧ ∀ p ∈ L, p.length ≤ 200)) ∧ Hid (Below w.heap.size w wr)) (fun _ i _ => 20 - (intOf i).toNat)
  case atStart => exact ⟨0, by decide, rfl, ⟨[], hide ⟨OwL.nil _ _, rfl, fun p hp => by cases hp⟩⟩, hide (Below.refl _ _)⟩
  case round =>
    obtain ⟨k, hk, rfl, ⟨L, OL⟩, BL⟩ := hrel
    by_cases hlt : k < len
    · by_cases h20 : k < 20
      · obtain ⟨b, o, A, m, C, l, rfl, hb, hcell, hrd⟩ := (HA k hlt).out
        have h20' : (k : Int) < 20 := by omega
        obtain ⟨n, hn⟩ : ∃ n, n = min m 200 := ⟨_, rfl⟩
        obtain ⟨rn, hnC⟩ := hrd.out.2.first hrd.out.1 (n := n) (by omega)
        have RN := hide rn
        have LN := hide (show (l.take n).length ≤ 200 by rw [List.length_take]; omega)
        have LL := hide (show L.length ≤ 1000000 by rw [OL.out.2.1]; omega)
        have en : min (m : Int) 200 = (n : Int) := by omega
        have hnC' : (n : Int) ≤ C := by omega
        clear rn hn hnC HA
        go_wp2_with fail
        refine wp_region_inv (I := fun f q wx => ∃ v3 v15 v16 v17 v18 v19 v20 v21 v22 v23 v24 v25 v26 v27 v28 : Value, q = { tmps := #[Value.slice (some { block := b, off := o }) len cap, undef, Value.slice none 0 0, v3, Value.int IntKind.i64 ↑k, Value.int IntKind.i64 ↑k, Value.slice (some { block := b, off := o }) len cap, Value.int IntKind.i64 ↑len, Value.bool true, Value.bool true, Value.int IntKind.i64 ↑k, Value.bool true, Value.bool true, u13, u14, v15, v16, v17, v18, v19, v20, v21, v22, v23, v24, v25, v26, v27, v28, undef], defers := [] } ∧ Hid (Below w.heap.size w wx) ∧ Hid (f 13 = false → OwL wx w.heap.size u3 L) ∧ Hid (f 0 = true → v15 = u3) ∧ Hid (f 1 = true → v16 = Value.slice (some { block := b, off := o }) len cap) ∧ Hid (f 2 = true → v17 = Value.int IntKind.i64 ↑k) ∧ Hid (f 3 = true → v18 = .pointer (some ⟨b, o + k, none⟩)) ∧ Hid (f 4 = true → v19 = Value.slice A m C) ∧ Hid (f 5 = true → v20 = Value.slice (some { block := b, off := o }) len cap) ∧ Hid (f 6 = true → v21 = Value.int IntKind.i64 ↑k) ∧ Hid (f 7 = true → v22 = .pointer (some ⟨b, o + k, none⟩)) ∧ Hid (f 8 = true → v23 = Value.slice A m C) ∧ Hid (f 9 = true → v24 = .int .i64 (m : Int)) ∧ Hid (f 10 = true → v25 = .int .i64 (n : Int)) ∧ Hid (f 11 = true → v26 = Value.slice A n C) ∧ Hid (f 12 = true → f 13 = false → One wx v27 (.slice A n C)) ∧ Hid (f 13 = true → OwL wx w.heap.size v28 (L ++ [l.take n])) ∧ Hid ((f 14 = true → v3 = v28 ∧ f 0 = true ∧ f 13 = true) ∧ (f 14 = false → v3 = u3))) (by kernel_rfl) (by kernel_rfl) ?_ ?_ ?_
        · exact ⟨_, _, _, _, _, _, _, _, _, _, _, _, _, _, _, rfl, hide (BL.out.drew), hide (fun _ => OL.out.1.keep (Below.refl _ _).drew), hide (fun h => Bool.noConfusion h), hide (fun h => Bool.noConfusion h), hide (fun h => Bool.noConfusion h), hide (fun h => Bool.noConfusion h), hide (fun h => Bool.noConfusion h), hide (fun h => Bool.noConfusion h), hide (fun h => Bool.noConfusion h), hide (fun h => Bool.noConfusion h), hide (fun h => Bool.noConfusion h), hide (fun h => Bool.noConfusion h), hide (fun h => Bool.noConfusion h), hide (fun h => Bool.noConfusion h), hide (fun h => Bool.noConfusion h), hide (fun h => Bool.noConfusion h), hide ⟨fun h => Bool.noConfusion h, fun _ => rfl⟩⟩
        · intro i hi f q wx hfi hB hI
          obtain ⟨v3, v15, v16, v17, v18, v19, v20, v21, v22, v23, v24, v25, v26, v27, v28, rfl, HR, G0, F0, F1, F2, F3, F4, F5, F6, F7, F8, F9, F10, F11, F12, F13, F14⟩ := hI
          have hin : i < 15 := hi
          have hic : i = 0 ∨ i = 1 ∨ i = 2 ∨ i = 3 ∨ i = 4 ∨ i = 5 ∨ i = 6 ∨ i = 7 ∨ i = 8 ∨ i = 9 ∨ i = 10 ∨ i = 11 ∨ i = 12 ∨ i = 13 ∨ i = 14 := by omega
          clear hi hin
          rcases hic with rfl | rfl | rfl | rfl | rfl | rfl | rfl | rfl | rfl | rfl | rfl | rfl | rfl | rfl | rfl
          · skip
            have r14 : u3 = v3 := by
              cases hL : f 14 with
              | false => exact (F14.out.2 hL).symm
              | true => have h2 := (F14.out.1 hL).2.1; rw [hfi] at h2; cases h2
            subst r14
            refine wpOp_list' (o := _) rfl (fun K hK => ?_)
            go_wp2_with fail
            exact hK.out _ _ ⟨_, _, _, _, _, _, _, _, _, _, _, _, _, _, _, rfl, HR, G0, hide (fun _ => rfl), F1, F2, F3, F4, F5, F6, F7, F8, F9, F10, F11, F12, F13, hide ⟨fun h => absurd ((F14.out.1 h).2.1) (by rw [hfi]; decide), fun _ => rfl⟩⟩
          · skip
            refine wpOp_list' (o := _) rfl (fun K hK => ?_)
            go_wp2_with fail
            exact hK.out _ _ ⟨_, _, _, _, _, _, _, _, _, _, _, _, _, _, _, rfl, HR, G0, F0, hide (fun _ => rfl), F2, F3, F4, F5, F6, F7, F8, F9, F10, F11, F12, F13, F14⟩
          · skip
            refine wpOp_list' (o := _) rfl (fun K hK => ?_)
            go_wp2_with fail
            exact hK.out _ _ ⟨_, _, _, _, _, _, _, _, _, _, _, _, _, _, _, rfl, HR, G0, F0, F1, hide (fun _ => rfl), F3, F4, F5, F6, F7, F8, F9, F10, F11, F12, F13, F14⟩
          · skip
            have d1 := F1.out (hB.dep 1 (by kernel_rfl))
            rw [d1]
            clear d1
            have d2 := F2.out (hB.dep 2 (by kernel_rfl))
            rw [d2]
            clear d2
            refine wpOp_list' (o := _) rfl (fun K hK => ?_)
            go_wp2_with fail
            exact hK.out _ _ ⟨_, _, _, _, _, _, _, _, _, _, _, _, _, _, _, rfl, HR, G0, F0, hide (fun _ => rfl), hide (fun _ => rfl), hide (fun _ => rfl), F4, F5, F6, F7, F8, F9, F10, F11, F12, F13, F14⟩
          · skip
            have d3 := F3.out (hB.dep 3 (by kernel_rfl))
            rw [d3]
            clear d3
            refine wpOp_list' (o := _) rfl (fun K hK => ?_)
            have hcx := (HR.out.cell (p := ⟨b, o + k, none⟩) hb.out).trans hcell
            go_wp2_with fail
            exact hK.out _ _ ⟨_, _, _, _, _, _, _, _, _, _, _, _, _, _, _, rfl, HR, G0, F0, F1, F2, hide (fun _ => rfl), hide (fun _ => rfl), F5, F6, F7, F8, F9, F10, F11, F12, F13, F14⟩
          · skip
            refine wpOp_list' (o := _) rfl (fun K hK => ?_)
            go_wp2_with fail
            exact hK.out _ _ ⟨_, _, _, _, _, _, _, _, _, _, _, _, _, _, _, rfl, HR, G0, F0, F1, F2, F3, F4, hide (fun _ => rfl), F6, F7, F8, F9, F10, F11, F12, F13, F14⟩
          · skip
            refine wpOp_list' (o := _) rfl (fun K hK => ?_)
            go_wp2_with fail
            exact hK.out _ _ ⟨_, _, _, _, _, _, _, _, _, _, _, _, _, _, _, rfl, HR, G0, F0, F1, F2, F3, F4, F5, hide (fun _ => rfl), F7, F8, F9, F10, F11, F12, F13, F14⟩
          · skip
            have d5 := F5.out (hB.dep 5 (by kernel_rfl))
            rw [d5]
            clear d5
            have d6 := F6.out (hB.dep 6 (by kernel_rfl))
            rw [d6]
            clear d6
            refine wpOp_list' (o := _) rfl (fun K hK => ?_)
            go_wp2_with fail
            exact hK.out _ _ ⟨_, _, _, _, _, _, _, _, _, _, _, _, _, _, _, rfl, HR, G0, F0, F1, F2, F3, F4, hide (fun _ => rfl), hide (fun _ => rfl), hide (fun _ => rfl), F8, F9, F10, F11, F12, F13, F14⟩
          · skip
            have d7 := F7.out (hB.dep 7 (by kernel_rfl))
            rw [d7]
            clear d7
            refine wpOp_list' (o := _) rfl (fun K hK => ?_)
            have hcx := (HR.out.cell (p := ⟨b, o + k, none⟩) hb.out).trans hcell
            go_wp2_with fail
            exact hK.out _ _ ⟨_, _, _, _, _, _, _, _, _, _, _, _, _, _, _, rfl, HR, G0, F0, F1, F2, F3, F4, F5, F6, hide (fun _ => rfl), hide (fun _ => rfl), F9, F10, F11, F12, F13, F14⟩
          · skip
            have d8 := F8.out (hB.dep 8 (by kernel_rfl))
            rw [d8]
            clear d8
            refine wpOp_list' (o := _) rfl (fun K hK => ?_)
            go_wp2_with fail
            exact hK.out _ _ ⟨_, _, _, _, _, _, _, _, _, _, _, _, _, _, _, rfl, HR, G0, F0, F1, F2, F3, F4, F5, F6, F7, hide (fun _ => rfl), hide (fun _ => rfl), F10, F11, F12, F13, F14⟩
          · skip
            have d9 := F9.out (hB.dep 9 (by kernel_rfl))
            rw [d9]
            clear d9
            refine wpOp_list' (o := _) rfl (fun K hK => ?_)
            go_wp2_with fail
            exact hK.out _ _ ⟨_, _, _, _, _, _, _, _, _, _, _, _, _, _, _, rfl, HR, G0, F0, F1, F2, F3, F4, F5, F6, F7, F8, hide (fun _ => rfl), hide (fun _ => rfl), F11, F12, F13, F14⟩
          · skip
            have d4 := F4.out (hB.dep 4 (by kernel_rfl))
            rw [d4]
            clear d4
            have d10 := F10.out (hB.dep 10 (by kernel_rfl))
            rw [d10]
            clear d10
            refine wpOp_list' (o := _) rfl (fun K hK => ?_)
            go_wp2_with fail
            exact hK.out _ _ ⟨_, _, _, _, _, _, _, _, _, _, _, _, _, _, _, rfl, HR, G0, F0, F1, F2, F3, hide (fun _ => rfl), F5, F6, F7, F8, F9, hide (fun _ => rfl), hide (fun _ => rfl), F12, F13, F14⟩
          · skip
            have d11 := F11.out (hB.dep 11 (by kernel_rfl))
            rw [d11]
            clear d11
            refine wpOp_list' (o := _) rfl (fun K hK => ?_)
            go_wp2_with fail
            have hbl := (one_blk wx (.cells #[.slice A n C] 22))
            have HR := hide (HR.out.trans (hbl.mono HR.out.size))
            exact hK.out _ _ ⟨_, _, _, _, _, _, _, _, _, _, _, _, _, _, _, rfl, HR, hide (fun h => (G0.out h).keep hbl), F0, F1, F2, F3, F4, F5, F6, F7, F8, F9, F10, hide (fun _ => rfl), hide (fun _ => fun _ => One.new wx (.slice A n C)), hide (fun h => (F13.out h).keep hbl), F14⟩
          · skip
            have d0 := F0.out (hB.dep 0 (by kernel_rfl))
            rw [d0]
            clear d0
            have d12 := F12.out (hB.dep 12 (by kernel_rfl))
            refine wpOp_list' (o := _) rfl (fun K hK => ?_)
            have d12 := d12 hfi
            go_wp2_with (refine wpList_apL (W := w) HR.out (G0.out hfi) d12 (Elm.old RN.out HR.out) LL.out rfl (.tmp 15) (.tmp 27) rfl rfl rfl ?_; intro v28n wy HO28 HB28 HG28)
            have HR := hide (HB28.out)
            exact hK.out _ _ ⟨_, _, _, _, _, _, _, _, _, _, _, _, _, _, _, rfl, HR, hide (fun h => by simp [upd] at h), hide (fun _ => rfl), F1, F2, F3, F4, F5, F6, F7, F8, F9, F10, F11, hide (fun _ h2 => by simp [upd] at h2), hide (fun _ => HO28.out), hide ⟨fun h => absurd ((F14.out.1 h).2.2) (by rw [hfi]; decide), F14.out.2⟩⟩
          · skip
            have d13 := F13.out (hB.dep 13 (by kernel_rfl))
            refine wpOp_list' (o := _) rfl (fun K hK => ?_)
            go_wp2_with fail
            exact hK.out _ _ ⟨_, _, _, _, _, _, _, _, _, _, _, _, _, _, _, rfl, HR, G0, F0, F1, F2, F3, F4, F5, F6, F7, F8, F9, F10, F11, F12, F13, hide ⟨fun _ => ⟨rfl, hB.dep 0 (by kernel_rfl), hB.dep 13 (by kernel_rfl)⟩, fun h => by simp [upd] at h⟩⟩
        · intro f q wx hall hI
          obtain ⟨v3, v15, v16, v17, v18, v19, v20, v21, v22, v23, v24, v25, v26, v27, v28, rfl, HR, G0, F0, F1, F2, F3, F4, F5, F6, F7, F8, F9, F10, F11, F12, F13, F14⟩ := hI
          obtain ⟨h17, _⟩ := F14.out
          obtain ⟨e17, _⟩ := h17 (hall 14 (by decide))
          have O13 := F13.out (hall 13 (by decide))
          subst e17
          have NX : ∃ L, Hid (OwL wx w.heap.size v3 L ∧ L.length = k + 1 ∧ ∀ p ∈ L, p.length ≤ 200) := ⟨L ++ [l.take n], hide ⟨O13, by rw [List.length_append, OL.out.2.1]; rfl, fun p hp => by
            rcases List.mem_append.1 hp with h | h
            · exact OL.out.2.2 p h
            · rw [List.mem_singleton.1 h]; exact LN.out⟩⟩
          clear F0 F1 F2 F3 F4 F5 F6 F7 F8 F9 F10 F11 F12 F13 F14 G0 hall h17 O13
          go_wp2_with fail
          go_roundw
          case rel => exact ⟨k + 1, h20, by go_num, NX, HR⟩
          case measure => simp [intOf]; omega
      · have hE : k = 20 := by omega
        subst hE
        go_wp2_with fail
        go_ret
        exact ⟨_, L, rfl, ⟨by rw [OL.out.2.1]; exact hk, OL.out.2.2⟩, OL.out.1, BL.out⟩
    · have hlt' : (len : Int) ≤ k := by omega
      go_wp2_with fail
      go_ret
      exact ⟨_, L, rfl, ⟨by rw [OL.out.2.1]; exact hk, OL.out.2.2⟩, OL.out.1, BL.out⟩
end Go.Proofs.Ytgjdaipofekjfaa
