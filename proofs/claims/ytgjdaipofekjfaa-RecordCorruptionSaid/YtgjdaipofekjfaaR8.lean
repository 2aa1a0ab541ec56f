/-
  Contracts of record.Next and of the reference's Next.
-/
import Derived.Test.YtgjdaipofekjfaaR7
namespace Go.Proofs.Ytgjdaipofekjfaa
open Go.RowKit
set_option linter.unusedVariables false
set_option linter.unusedSimpArgs false
set_option linter.unnecessarySimpa false

/-- What Next answers: a payload of its own. -/
def NxP (w : World) (l : List Nat) (e : Ending) (w' : World) : Prop :=
  ∃ p, e = .returned (.tuple #[p, .int .i64 (Crc.nxtN l : Nat), .int .i64 (Crc.nxtE l : Nat)]) ∧ Ow w' w.heap.size p (Crc.nxtP l) ∧ Below w.heap.size w w'

theorem nxtP_len (l : List Nat) : (Crc.nxtP l).length ≤ 1048576 := by
  by_cases h : Crc.nxtE l = 0
  · have := Crc.nxt_ok h; omega
  · rw [(Crc.nxt_bad h).2]; decide

theorem next_any (v : Value) (l : List Nat) (w : World) (h : RdB w v l) (hl : l.length ≤ 140737488355328) :
    Calls Try.prog 22 #[v] w (NxP w l) := by
  have FR := hide (frame_any v l w h hl)
  have PL := hide (nxtP_len l)
  go_enter Try.func22, Try.ntmps22
  go_wp2_with fail
  refine FR.out.mono ?_
  rintro e w1 ⟨p, rfl, hp, hb⟩
  have CL := hide (clone_any p _ w1 (hp.keep hb) (Nat.le_trans PL.out (by decide)))
  have HB := hide hb
  clear hp hb
  generalize hnn : ((Crc.nxtN l : Nat) : Int) = nn at *
  generalize hne : ((Crc.nxtE l : Nat) : Int) = ne at *
  have HN := hide (And.intro hnn hne)
  clear hnn hne
  go_wp2_with fail
  refine CL.out.mono ?_
  rintro e w2 ⟨v', rfl, ho, hb2⟩
  go_wp2_with fail
  exact bodyPost_ret (v := .tuple #[v', .int .i64 nn, .int .i64 ne]) (by simp [results, Try.results22, go_sem]) rfl ⟨v', by rw [HN.out.1, HN.out.2], ho.low HB.out.size, HB.out.trans (hb2.mono HB.out.size)⟩

theorem nxP_bad {w w' : World} {l : List Nat} {E : Nat} {e : Int} (h : Crc.nxtE l = E) (he : (E : Int) = e) (h0 : E ≠ 0) (hb : Below w.heap.size w w') :
    NxP w l (.returned (.tuple #[.slice none 0 0, .int .i64 0, .int .i64 e])) w' := by
  obtain ⟨h1, h2⟩ := Crc.nxt_bad (b := l) (by omega)
  exact ⟨_, by rw [h1, h, he]; rfl, by rw [h2]; exact Ow.nil _ _, hb⟩

set_option maxHeartbeats 4000000 in
set_option maxRecDepth 100000 in
theorem rnext_any (v : Value) (l : List Nat) (w : World) (h : RdB w v l) (hl : l.length ≤ 140737488355328) :
    Calls Try.prog 23 #[v] w (NxP w l) := by
  have HR := hide h
  obtain ⟨a, c, rfl⟩ := h.form
  by_cases h8 : l.length < 8
  · have E : Crc.nxtE l = 19 := by unfold Crc.nxtE; rw [if_pos h8]
    have HE := hide E
    clear h E
    clear hl
    generalize l.length = m at *
    go_enter Try.func23, Try.ntmps23
    go_wp2_with fail
    exact bodyPost_ret (v := .tuple #[.slice none 0 0, .int .i64 0, .int .i64 19]) (by simp [results, Try.results23, go_sem]) rfl (nxP_bad HE.out rfl (by decide) (Below.refl _ _))
  have NU := fun w' (hb : Below w.heap.size w w') => hide (read_any _ l w' (h.keep hb) (by omega))
  have RL := Crc.rd4_lt h.1
  have RI : (Crc.rd4 l : Int) < 4294967296 := by omega
  by_cases h1 : 1048576 < Crc.rd4 l
  · have E : Crc.nxtE l = 2 := by unfold Crc.nxtE; rw [if_neg h8, if_pos h1]
    have HE := hide E
    clear h E
    generalize hm : l.length = m at *
    clear hm
    obtain ⟨R, HRI⟩ : ∃ R : Int, R = (Crc.rd4 l : Int) := ⟨_, rfl⟩
    rw [← HRI] at NU RI
    have h1' : (1048576 : Int) < R := by omega
    have hm' : (m : Int) ≤ 140737488355328 := by omega
    have h8' : ¬ ((m : Int) < 8) := by omega
    clear hl h8 h1 RL HRI
    go_enter Try.func23, Try.ntmps23
    go_wp2_with (go_at_call 34; refine (NU _ (Below.refl _ _)).out.mono ?_; rintro e w1 ⟨rfl, n, rfl⟩)
    exact bodyPost_ret (v := .tuple #[.slice none 0 0, .int .i64 0, .int .i64 2]) (by simp [results, Try.results23, go_sem]) rfl (nxP_bad HE.out rfl (by decide) (below_drewN (Below.refl _ _) _))
  by_cases h2 : l.length < 8 + Crc.rd4 l
  · have E : Crc.nxtE l = 19 := by unfold Crc.nxtE; rw [if_neg h8, if_neg h1, if_pos h2]
    have HE := hide E
    clear h E
    generalize hm : l.length = m at *
    clear hm
    obtain ⟨R, HRI⟩ : ∃ R : Int, R = (Crc.rd4 l : Int) := ⟨_, rfl⟩
    rw [← HRI] at NU RI
    have h1' : (R : Int) ≤ 1048576 := by omega
    have h2' : (m : Int) < 8 + R := by omega
    have hm' : (m : Int) ≤ 140737488355328 := by omega
    have h8' : ¬ ((m : Int) < 8) := by omega
    have h0' : 0 ≤ R := by omega
    clear hl h8 h1 h2 RL HRI
    go_enter Try.func23, Try.ntmps23
    go_wp2_with (go_at_call 34; refine (NU _ (Below.refl _ _)).out.mono ?_; rintro e w1 ⟨rfl, n, rfl⟩)
    exact bodyPost_ret (v := .tuple #[.slice none 0 0, .int .i64 0, .int .i64 19]) (by simp [results, Try.results23, go_sem]) rfl (nxP_bad HE.out rfl (by decide) (below_drewN (Below.refl _ _) _))
  obtain ⟨vp, hp, rp⟩ := run_part w _ l h 8 (8 + Crc.rd4 l) (by omega) (by omega) (some (.int .i64 8)) (some (.int .i64 ((8 + Crc.rd4 l : Nat) : Int))) (.inr rfl) (.inr rfl)
  obtain ⟨v4, hp4, rp4⟩ := run_part w _ l h 0 4 (by omega) (by omega) none (some (.int .i64 4)) (.inl ⟨rfl, rfl⟩) (.inr rfl)
  obtain ⟨v5, hp5, rp5⟩ := run_part w _ l h 4 l.length (by omega) (by omega) (some (.int .i64 4)) none (.inr rfl) (.inl ⟨rfl, rfl⟩)
  have e8 : ((8 + Crc.rd4 l : Nat) : Int) = 8 + (Crc.rd4 l : Int) := by omega
  rw [e8] at rp
  have RP := hide rp
  have RP4 := hide rp4
  have RP5 := hide rp5
  clear rp rp4 rp5
  rw [show (8 + Crc.rd4 l) - 8 = Crc.rd4 l by omega] at hp
  rw [show (l.drop 0).take (4 - 0) = l.take 4 by simp] at hp4
  rw [show (l.drop 4).take (l.length - 4) = l.drop 4 by rw [List.take_of_length_le]; simp] at hp5
  have N5 := fun w' (hb : Below w.heap.size w w') => hide (read_any v5 (l.drop 4) w' (hp5.keep hb) (by rw [List.length_drop]; omega))
  have HCE := hide (show Crc.nxtE l = if Crc.crc (l.take 4 ++ (l.drop 8).take (Crc.rd4 l)) = Crc.rd4 (l.drop 4) then 0 else 18 by unfold Crc.nxtE; rw [if_neg h8, if_neg h1, if_neg h2])
  have L4 := hide (show (l.take 4).length ≤ 4 by rw [List.length_take]; omega)
  have LP := hide (show ((l.drop 8).take (Crc.rd4 l)).length ≤ 1048576 by rw [List.length_take]; omega)
  have CX := hide (show Crc.crc (l.take 4 ++ (l.drop 8).take (Crc.rd4 l)) = Crc.crc (l.take 4 ++ (l.drop 8).take (Crc.rd4 l)) from rfl)
  have HPE := hide (show Crc.nxtE l = 0 → Crc.nxtP l = (l.drop 8).take (Crc.rd4 l) from fun h => (Crc.nxt_ok h).2.2.2.2)
  generalize Crc.rd4 (l.drop 4) = Y at *
  generalize l.take 4 = l4 at *
  generalize (l.drop 8).take (Crc.rd4 l) = P at *
  generalize hX : Crc.crc (l4 ++ P) = X at *
  have HX := hide hX
  have HP := hide hp
  have HP4 := hide hp4
  clear hp hp4 hp5 h e8 hX CX
  generalize hm : l.length = m at *
  have HM := hide hm
  clear hm
  obtain ⟨R, hRR⟩ : ∃ R : Int, R = (Crc.rd4 l : Int) := ⟨_, rfl⟩
  rw [← hRR] at NU RI RP
  have h1' : (R : Int) ≤ 1048576 := by omega
  have h2' : 8 + (R : Int) ≤ m := by omega
  have hm' : (m : Int) ≤ 140737488355328 := by omega
  have h8' : ¬ ((m : Int) < 8) := by omega
  have HMM := hide (And.intro hl (And.intro RL h2))
  have h0' : 0 ≤ R := by omega
  have HRR := hide hRR
  clear hl h8 h1 h2 RL hRR
  go_enter Try.func23, Try.ntmps23
  go_wp2_with (first
    | (go_at_call 34; refine (NU _ (Below.refl _ _)).out.mono ?_; rintro e w1 ⟨rfl, n, rfl⟩)
    | (refine wpList_part rfl (.tmp 21) (some (.const (.int .i64 8))) (some (.tmp 24)) rfl vp RP.out ?_)
    | (refine wpList_app rfl (.tmp 20) (.tmp 25) rfl w.heap.size _ [] rfl (Ow.empty _ _ (Nat.le_refl _)) _ P rfl (HP.out.keep ((below_drewN (Below.refl _ _) n).alloc (Nat.le_refl _) _)) (by have := LP.out; simp; omega) (by simp) ?_; intro vq w2 ho hg))
  have HW2 := hide (below_own ((below_drewN (Below.refl w.heap.size w) n).alloc (Nat.le_refl _) (.cells #[] 5)) (Ow.empty (w.drewN n) w.heap.size (Nat.le_refl _)) hg)
  have HO2 := hide (show Ow w2 w.heap.size vq P by simpa using ho)
  clear ho hg
  refine wp_region_inv (I := fun f q wx => ∃ v27 v28 v29 v30 v31 v32 v33 v34 v35 v36 v37 : Value, q = { tmps := #[Value.slice a m c, undef, Value.slice none 0 0, Value.int IntKind.i64 0, Value.int IntKind.i64 0, Value.int IntKind.u32 R, vq, Value.slice a m c, Value.int IntKind.i64 ↑m, Value.bool false, Value.slice a m c, Value.int IntKind.u32 R, Value.int IntKind.u32 R, Value.bool (decide (1048576 < R)), Value.slice a m c, Value.int IntKind.i64 ↑m, Value.int IntKind.u32 R, Value.int IntKind.i64 R, Value.int IntKind.i64 (8 + R), Value.bool (decide (↑m < 8 + R)), Value.slice (some { block := w.heap.size, off := 0 }) 0 0, Value.slice a m c, Value.int IntKind.u32 R, Value.int IntKind.i64 R, Value.int IntKind.i64 (8 + R), vp, vq, v27, v28, v29, v30, v31, v32, v33, v34, v35, v36, v37, undef, undef, undef, undef], defers := [] } ∧ Hid (Below w2.heap.size w2 wx) ∧ Hid (f 0 = true → v27 = Value.slice a m c) ∧ Hid (f 1 = true → v28 = v5) ∧ Hid (f 2 = true → v29 = .int .u32 (Y : Int)) ∧ Hid (f 3 = true → f 6 = false → Ow wx w2.heap.size v30 []) ∧ Hid (f 4 = true → v31 = Value.slice a m c) ∧ Hid (f 5 = true → v32 = v4) ∧ Hid (f 6 = true → f 3 = true ∧ (f 8 = false → Ow wx w2.heap.size v33 l4)) ∧ Hid (f 7 = true → v34 = vq) ∧ Hid (f 8 = true → f 6 = true ∧ (Ow wx w2.heap.size v35 (l4 ++ P))) ∧ Hid (f 9 = true → v36 = .int .u32 (X : Int)) ∧ Hid (f 10 = true → v37 = .bool ((Y : Int) != (X : Int)))) (by kernel_rfl) (by kernel_rfl) ?_ ?_ ?_
  · exact ⟨_, _, _, _, _, _, _, _, _, _, _, rfl, hide ((Below.refl w2.heap.size w2).drew), hide (fun h => Bool.noConfusion h), hide (fun h => Bool.noConfusion h), hide (fun h => Bool.noConfusion h), hide (fun h => Bool.noConfusion h), hide (fun h => Bool.noConfusion h), hide (fun h => Bool.noConfusion h), hide (fun h => Bool.noConfusion h), hide (fun h => Bool.noConfusion h), hide (fun h => Bool.noConfusion h), hide (fun h => Bool.noConfusion h), hide (fun h => Bool.noConfusion h)⟩
  · intro i hi f q wx hfi hB hI
    obtain ⟨v27, v28, v29, v30, v31, v32, v33, v34, v35, v36, v37, rfl, HR, F0, F1, F2, F3, F4, F5, F6, F7, F8, F9, F10⟩ := hI
    have hin : i < 11 := hi
    have hic : i = 0 ∨ i = 1 ∨ i = 2 ∨ i = 3 ∨ i = 4 ∨ i = 5 ∨ i = 6 ∨ i = 7 ∨ i = 8 ∨ i = 9 ∨ i = 10 := by omega
    clear hi hin
    rcases hic with rfl | rfl | rfl | rfl | rfl | rfl | rfl | rfl | rfl | rfl | rfl
    · skip
      refine wpOp_list' (o := _) rfl (fun K hK => ?_)
      go_wp2_with fail
      exact hK.out _ _ ⟨_, _, _, _, _, _, _, _, _, _, _, rfl, HR, hide (fun _ => rfl), F1, F2, F3, F4, F5, F6, F7, F8, F9, F10⟩
    · skip
      have d0 := F0.out (hB.dep 0 (by kernel_rfl))
      rw [d0]
      clear d0
      refine wpOp_list' (o := _) rfl (fun K hK => ?_)
      go_wp2_with (refine wpList_part rfl (.tmp 27) (some (.const (.int .i64 4))) none rfl v5 RP5.out ?_)
      exact hK.out _ _ ⟨_, _, _, _, _, _, _, _, _, _, _, rfl, HR, hide (fun _ => rfl), hide (fun _ => rfl), F2, F3, F4, F5, F6, F7, F8, F9, F10⟩
    · skip
      have d1 := F1.out (hB.dep 1 (by kernel_rfl))
      rw [d1]
      clear d1
      refine wpOp_list' (o := _) rfl (fun K hK => ?_)
      go_wp2_with fail
      refine (N5 _ (HW2.out.trans (HR.out.mono HW2.out.size))).out.mono ?_
      rintro e wy ⟨rfl, ny, rfl⟩
      go_wp2_with fail
      have hbl := (below_drewN (Below.refl wx.heap.size wx) ny)
      have HR := hide (HR.out.trans (hbl.mono HR.out.size))
      exact hK.out _ _ ⟨_, _, _, _, _, _, _, _, _, _, _, rfl, HR, F0, hide (fun _ => rfl), hide (fun _ => rfl), hide (fun h h2 => (F3.out h h2).keep hbl), F4, F5, hide (fun h => ⟨(F6.out h).1, fun h2 => ((F6.out h).2 h2).keep hbl⟩), F7, hide (fun h => ⟨(F8.out h).1, (F8.out h).2.keep hbl⟩), F9, F10⟩
    · skip
      refine wpOp_list' (o := _) rfl (fun K hK => ?_)
      go_wp2_with fail
      have HR0 := HR
      have hbl := (one_blk wx (.cells #[] 5))
      have HR := hide (HR.out.trans (hbl.mono HR.out.size))
      exact hK.out _ _ ⟨_, _, _, _, _, _, _, _, _, _, _, rfl, HR, F0, F1, F2, hide (fun _ => fun _ => Ow.empty wx w2.heap.size HR0.out.size), F4, F5, hide (fun h => absurd (F6.out h).1 (by rw [hfi]; decide)), F7, hide (fun h => ⟨(F8.out h).1, (F8.out h).2.keep hbl⟩), F9, F10⟩
    · skip
      refine wpOp_list' (o := _) rfl (fun K hK => ?_)
      go_wp2_with fail
      exact hK.out _ _ ⟨_, _, _, _, _, _, _, _, _, _, _, rfl, HR, F0, F1, F2, F3, hide (fun _ => rfl), F5, F6, F7, F8, F9, F10⟩
    · skip
      have d4 := F4.out (hB.dep 4 (by kernel_rfl))
      rw [d4]
      clear d4
      refine wpOp_list' (o := _) rfl (fun K hK => ?_)
      go_wp2_with (refine wpList_part rfl (.tmp 31) none (some (.const (.int .i64 4))) rfl v4 RP4.out ?_)
      exact hK.out _ _ ⟨_, _, _, _, _, _, _, _, _, _, _, rfl, HR, F0, F1, F2, F3, hide (fun _ => rfl), hide (fun _ => rfl), F6, F7, F8, F9, F10⟩
    · skip
      have d3 := F3.out (hB.dep 3 (by kernel_rfl))
      have d5 := F5.out (hB.dep 5 (by kernel_rfl))
      rw [d5]
      clear d5
      refine wpOp_list' (o := _) rfl (fun K hK => ?_)
      go_wp2_with (refine wpList_app rfl (.tmp 30) (.tmp 32) rfl w2.heap.size _ [] rfl (d3 hfi) _ l4 rfl (HP4.out.keep (HW2.out.trans (HR.out.mono HW2.out.size))) (by have := L4.out; simp; omega) HR.out.size ?_; intro v33 wy ho6 hg6)
      have HR := hide (HR.out.grown hg6 HR.out.size (fun k hk => ((d3 hfi).2.lt k hk).1))
      exact hK.out _ _ ⟨_, _, _, _, _, _, _, _, _, _, _, rfl, HR, F0, F1, F2, hide (fun _ h2 => by simp [upd] at h2), F4, hide (fun _ => rfl), hide (fun _ => ⟨hB.dep 3 (by kernel_rfl), fun _ => (by simpa using ho6)⟩), F7, hide (fun h => absurd (F8.out h).1 (by rw [hfi]; decide)), F9, F10⟩
    · skip
      refine wpOp_list' (o := _) rfl (fun K hK => ?_)
      go_wp2_with fail
      exact hK.out _ _ ⟨_, _, _, _, _, _, _, _, _, _, _, rfl, HR, F0, F1, F2, F3, F4, F5, F6, hide (fun _ => rfl), F8, F9, F10⟩
    · skip
      have d6 := F6.out (hB.dep 6 (by kernel_rfl))
      have d7 := F7.out (hB.dep 7 (by kernel_rfl))
      rw [d7]
      clear d7
      refine wpOp_list' (o := _) rfl (fun K hK => ?_)
      go_wp2_with (refine wpList_app rfl (.tmp 33) (.tmp 34) rfl w2.heap.size _ l4 rfl (d6.2 hfi) _ P rfl (HO2.out.rd.keep HR.out) (by have := L4.out; have := LP.out; omega) HR.out.size ?_; intro v35 wy ho8 hg8)
      have HR := hide (HR.out.grown hg8 HR.out.size (fun k hk => ((d6.2 hfi).2.lt k hk).1))
      exact hK.out _ _ ⟨_, _, _, _, _, _, _, _, _, _, _, rfl, HR, F0, F1, F2, hide (fun _ h2 => by have h6 := hB.dep 6 (by kernel_rfl); simp [upd] at h2; rw [h6] at h2; cases h2), F4, F5, hide (fun h => ⟨(F6.out h).1, fun h2 => by simp [upd] at h2⟩), hide (fun _ => rfl), hide (fun _ => ⟨hB.dep 6 (by kernel_rfl), ho8⟩), F9, F10⟩
    · skip
      have d8 := F8.out (hB.dep 8 (by kernel_rfl))
      refine wpOp_list' (o := _) rfl (fun K hK => ?_)
      go_wp2_with fail
      refine (rsum_any _ _ wx d8.2.rd).mono ?_
      rintro e wy ⟨rfl, rfl⟩
      rw [HX.out]
      go_wp2_with fail
      exact hK.out _ _ ⟨_, _, _, _, _, _, _, _, _, _, _, rfl, HR, F0, F1, F2, F3, F4, F5, F6, F7, F8, hide (fun _ => rfl), F10⟩
    · skip
      have d2 := F2.out (hB.dep 2 (by kernel_rfl))
      rw [d2]
      clear d2
      have d9 := F9.out (hB.dep 9 (by kernel_rfl))
      rw [d9]
      clear d9
      refine wpOp_list' (o := _) rfl (fun K hK => ?_)
      go_wp2_with fail
      exact hK.out _ _ ⟨_, _, _, _, _, _, _, _, _, _, _, rfl, HR, F0, F1, hide (fun _ => rfl), F3, F4, F5, F6, F7, F8, hide (fun _ => rfl), hide (fun _ => rfl)⟩
  · intro f q wx hall hI
    obtain ⟨v27, v28, v29, v30, v31, v32, v33, v34, v35, v36, v37, rfl, HR, F0, F1, F2, F3, F4, F5, F6, F7, F8, F9, F10⟩ := hI
    have e8 := F10.out (hall 10 (by decide))
    rw [e8]
    clear e8 F0 F1 F2 F3 F4 F5 F6 F7 F8 F9 F10 hall
    by_cases hxy : X = Y
    · have HE := hide (HCE.out.trans (if_pos hxy))
      have nb : ((Y : Int) != (X : Int)) = false := by rw [hxy]; simp
      have HNP := hide (Crc.nxt_ok HE.out)
      have PE := hide (HPE.out HE.out)
      rw [nb]
      clear nb hxy
      go_wp2_with fail
      exact bodyPost_ret (v := .tuple #[vq, .int .i64 (8 + R), .int .i64 0]) (by simp [results, Try.results23, go_sem]) rfl ⟨vq, by rw [HE.out, HNP.out.2.2.1, HRR.out]; simp, by rw [PE.out]; exact HO2.out.keep HR.out, HW2.out.trans (HR.out.mono HW2.out.size)⟩
    · have HE := hide (HCE.out.trans (if_neg hxy))
      have nb : ((Y : Int) != (X : Int)) = true := by simp; omega
      rw [nb]
      clear nb hxy
      go_wp2_with fail
      exact bodyPost_ret (v := .tuple #[.slice none 0 0, .int .i64 0, .int .i64 18]) (by simp [results, Try.results23, go_sem]) rfl (nxP_bad HE.out rfl (by decide) (HW2.out.trans (HR.out.mono HW2.out.size)))
end Go.Proofs.Ytgjdaipofekjfaa
