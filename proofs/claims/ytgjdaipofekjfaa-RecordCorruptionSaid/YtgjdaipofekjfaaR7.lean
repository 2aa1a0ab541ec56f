/-
  Contract of record.frame: the payload and the size of the record at the start of a byte string.
-/
import Derived.Test.YtgjdaipofekjfaaInv
namespace Go.Proofs.Ytgjdaipofekjfaa
open Go.RowKit
set_option linter.unusedVariables false
set_option linter.unusedSimpArgs false
set_option linter.unnecessarySimpa false

/-- What frame and Next answer: the payload reads as nxtP. -/
def FrP (w : World) (l : List Nat) (e : Ending) (w' : World) : Prop :=
  ∃ p, e = .returned (.tuple #[p, .int .i64 (Crc.nxtN l : Nat), .int .i64 (Crc.nxtE l : Nat)]) ∧ RdB w p (Crc.nxtP l) ∧ Below w.heap.size w w'

theorem one_blk (w : World) (o : Obj) : Below w.heap.size w (w.alloc o) := (Below.refl _ _).alloc (Nat.le_refl _) o
theorem bne_cast (a b : Nat) : ((a : Int) != (b : Int)) = !decide (a = b) := by
  by_cases h : a = b
  · subst h; simp
  · have : (a : Int) ≠ b := by omega
    simp [h, this]
theorem RdP.keep {W w : World} {v : Value} {vs : List Value} {L : List (List Nat)} (h : RdP W v vs L) (hb : Below W.heap.size W w) : RdP w v vs L := by
  obtain ⟨h1, h2, h3, b, off, cap, hv, g1, g2, g3, gc⟩ := h
  exact ⟨h1, h2, fun k hk => (h3 k hk).keep hb, b, off, cap, hv, g1, g2, by have := hb.size; omega, fun k hk => (hb.cell (p := ⟨b, off + k, none⟩) g3).trans (gc k hk)⟩
theorem rdp_two {w : World} {v1 v2 : Value} {l1 l2 : List Nat} (h1 : RdB w v1 l1) (h2 : RdB w v2 l2) : RdP (w.alloc (.cells #[v1, v2] 22)) (.slice (some ⟨w.heap.size, 0, none⟩) 2 2) [v1, v2] [l1, l2] := by
  have hb : Below w.heap.size w (w.alloc (.cells #[v1, v2] 22)) := one_blk _ _
  have two : ∀ k, k < [l1, l2].length → k = 0 ∨ k = 1 := by intro k hk; simp at hk; omega
  refine ⟨rfl, by simp, ?_, w.heap.size, 0, 2, rfl, Nat.le_refl _, by unfold maxLen; decide, by simp, ?_⟩
  · intro k hk
    rcases two k hk with rfl | rfl
    · exact h1.keep hb
    · exact h2.keep hb
  · intro k hk
    rcases two k hk with rfl | rfl
    · rw [Nat.zero_add, World.cell?_alloc_at _ _ _ _ rfl]; rfl
    · rw [Nat.zero_add, World.cell?_alloc_at _ _ _ _ rfl]; rfl
theorem RdB.formV {w : World} {v : Value} {l : List Nat} (h : RdB w v l) : ∃ a n c, v = .slice a n c := by
  obtain ⟨a, c, h⟩ := h.form; exact ⟨a, _, c, h⟩
theorem frP_bad {w w' : World} {l : List Nat} {E : Nat} {e : Int} (h : Crc.nxtE l = E) (he : (E : Int) = e) (h0 : E ≠ 0) (hb : Below w.heap.size w w') :
    FrP w l (.returned (.tuple #[.slice none 0 0, .int .i64 0, .int .i64 e])) w' := by
  obtain ⟨h1, h2⟩ := Crc.nxt_bad (b := l) (by omega)
  exact ⟨_, by rw [h1, h, he]; rfl, by rw [h2]; exact RdB.nil _, hb⟩

set_option maxHeartbeats 4000000 in
set_option maxRecDepth 100000 in
theorem frame_any (v : Value) (l : List Nat) (w : World) (h : RdB w v l) (hl : l.length ≤ 140737488355328) :
    Calls Try.prog 32 #[v] w (FrP w l) := by
  have HR := hide h
  obtain ⟨a, c, rfl⟩ := h.form
  by_cases h8 : l.length < 8
  · have E : Crc.nxtE l = 19 := by unfold Crc.nxtE; rw [if_pos h8]
    have HE := hide E
    clear h E
    clear hl
    generalize l.length = m at *
    go_enter Try.func32, Try.ntmps32
    go_wp2_with fail
    exact bodyPost_ret (v := .tuple #[.slice none 0 0, .int .i64 0, .int .i64 19]) (by simp [results, Try.results32, go_sem]) rfl (frP_bad HE.out rfl (by decide) (Below.refl _ _))
  have NU := fun w' (hb : Below w.heap.size w w') => hide (number_any _ l w' (h.keep hb) (by omega))
  have RL := Crc.rd4_lt h.1
  have RI : (Crc.rd4 l : Int) < 4294967296 := by omega
  by_cases h1 : 1048576 < Crc.rd4 l
  · have E : Crc.nxtE l = 2 := by unfold Crc.nxtE; rw [if_neg h8, if_pos h1]
    have HE := hide E
    clear h E
    generalize hm : l.length = m at *
    clear hm
    obtain ⟨R, HRI⟩ : ∃ R : Int, R = (Crc.rd4 l : Int) := ⟨_, rfl⟩
    rw [← HRI] at NU RI
    have h1' : (1048576 : Int) < R := by omega
    have hm' : (m : Int) ≤ 140737488355328 := by omega
    have h8' : ¬ ((m : Int) < 8) := by omega
    clear hl h8 h1 RL HRI
    go_enter Try.func32, Try.ntmps32
    go_wp2_with (go_at_call 37; refine (NU _ (Below.refl _ _)).out.mono ?_; rintro e w1 ⟨rfl, n, rfl⟩)
    exact bodyPost_ret (v := .tuple #[.slice none 0 0, .int .i64 0, .int .i64 2]) (by simp [results, Try.results32, go_sem]) rfl (frP_bad HE.out rfl (by decide) (below_drewN (Below.refl _ _) _))
  by_cases h2 : l.length < 8 + Crc.rd4 l
  · have E : Crc.nxtE l = 19 := by unfold Crc.nxtE; rw [if_neg h8, if_neg h1, if_pos h2]
    have HE := hide E
    clear h E
    generalize hm : l.length = m at *
    clear hm
    obtain ⟨R, HRI⟩ : ∃ R : Int, R = (Crc.rd4 l : Int) := ⟨_, rfl⟩
    rw [← HRI] at NU RI
    have h1' : (R : Int) ≤ 1048576 := by omega
    have h2' : (m : Int) < 8 + R := by omega
    have hm' : (m : Int) ≤ 140737488355328 := by omega
    have h8' : ¬ ((m : Int) < 8) := by omega
    have h0' : 0 ≤ R := by omega
    clear hl h8 h1 h2 RL HRI
    go_enter Try.func32, Try.ntmps32
    go_wp2_with (go_at_call 37; refine (NU _ (Below.refl _ _)).out.mono ?_; rintro e w1 ⟨rfl, n, rfl⟩)
    exact bodyPost_ret (v := .tuple #[.slice none 0 0, .int .i64 0, .int .i64 19]) (by simp [results, Try.results32, go_sem]) rfl (frP_bad HE.out rfl (by decide) (below_drewN (Below.refl _ _) _))
  obtain ⟨vp, hp, rp⟩ := run_part w _ l h 8 (8 + Crc.rd4 l) (by omega) (by omega) (some (.int .i64 8)) (some (.int .i64 ((8 + Crc.rd4 l : Nat) : Int))) (.inr rfl) (.inr rfl)
  obtain ⟨v4, hp4, rp4⟩ := run_part w _ l h 0 4 (by omega) (by omega) none (some (.int .i64 4)) (.inl ⟨rfl, rfl⟩) (.inr rfl)
  obtain ⟨v5, hp5, rp5⟩ := run_part w _ l h 4 l.length (by omega) (by omega) (some (.int .i64 4)) none (.inr rfl) (.inl ⟨rfl, rfl⟩)
  have e8 : ((8 + Crc.rd4 l : Nat) : Int) = 8 + (Crc.rd4 l : Int) := by omega
  rw [e8] at rp
  have RP := hide rp
  have RP4 := hide rp4
  have RP5 := hide rp5
  clear rp rp4 rp5
  rw [show (8 + Crc.rd4 l) - 8 = Crc.rd4 l by omega] at hp
  rw [show (l.drop 0).take (4 - 0) = l.take 4 by simp] at hp4
  rw [show (l.drop 4).take (l.length - 4) = l.drop 4 by rw [List.take_of_length_le]; simp] at hp5
  have N5 := fun w' (hb : Below w.heap.size w w') => hide (number_any v5 (l.drop 4) w' (hp5.keep hb) (by rw [List.length_drop]; omega))
  have HCE := hide (show Crc.nxtE l = if Crc.crc (l.take 4 ++ (l.drop 8).take (Crc.rd4 l)) = Crc.rd4 (l.drop 4) then 0 else 18 by unfold Crc.nxtE; rw [if_neg h8, if_neg h1, if_neg h2])
  have EX := fun v w' (h : RdP w' v [v4, vp] [l.take 4, (l.drop 8).take (Crc.rd4 l)]) => hide (extall_any 0 v _ _ w' (by decide) h)
  rw [show Crc.ext 0 [l.take 4, (l.drop 8).take (Crc.rd4 l)].flatten = Crc.crc (l.take 4 ++ (l.drop 8).take (Crc.rd4 l)) by simp [Crc.crc]] at EX
  generalize Crc.crc (l.take 4 ++ (l.drop 8).take (Crc.rd4 l)) = X at *
  generalize Crc.rd4 (l.drop 4) = Y at *
  have FM4 := hide hp4.formV
  have FMP := hide hp.formV
  have HP := hide hp
  have HP4 := hide hp4
  clear hp hp4 hp5 h e8
  generalize hm : l.length = m at *
  have HM := hide hm
  clear hm
  obtain ⟨R, hRR⟩ : ∃ R : Int, R = (Crc.rd4 l : Int) := ⟨_, rfl⟩
  rw [← hRR] at NU RI RP
  have h1' : (R : Int) ≤ 1048576 := by omega
  have h2' : 8 + (R : Int) ≤ m := by omega
  have hm' : (m : Int) ≤ 140737488355328 := by omega
  have h8' : ¬ ((m : Int) < 8) := by omega
  have HMM := hide (And.intro hl (And.intro RL h2))
  have h0' : 0 ≤ R := by omega
  have HRR := hide hRR
  clear hl h8 h1 h2 RL hRR
  go_enter Try.func32, Try.ntmps32
  go_wp2_with (first
    | (go_at_call 37; refine (NU _ (Below.refl _ _)).out.mono ?_; rintro e w1 ⟨rfl, n, rfl⟩)
    | (refine wpList_part rfl (.tmp 22) (some (.const (.int .i64 8))) (some (.tmp 23)) rfl vp RP.out ?_))
  refine wp_region_inv (I := fun f q wx => ∃ v25 v26 v27 v28 v29 v30 v31 v32 v33 : Value, q = { tmps := #[Value.slice a m c, undef, Value.slice none 0 0, Value.int IntKind.i64 0, Value.int IntKind.i64 0, Value.int IntKind.u32 R, Value.int IntKind.i64 (8 + R), vp, Value.slice a m c, Value.int IntKind.i64 ↑m, Value.bool false, Value.slice a m c, Value.int IntKind.u32 R, Value.int IntKind.u32 R, Value.bool (decide (1048576 < R)), Value.int IntKind.u32 R, Value.int IntKind.i64 R, Value.int IntKind.i64 (8 + R), Value.slice a m c, Value.int IntKind.i64 ↑m, Value.int IntKind.i64 (8 + R), Value.bool (decide (↑m < 8 + R)), Value.slice a m c, Value.int IntKind.i64 (8 + R), vp, v25, v26, v27, v28, v29, v30, v31, v32, v33, undef, undef], defers := [] } ∧ Hid (Below w.heap.size w wx) ∧ Hid (f 0 = true → v25 = Value.slice a m c) ∧ Hid (f 1 = true → v26 = v4) ∧ Hid (f 2 = true → v27 = vp) ∧ Hid (f 3 = true → RdP wx v28 [v4, vp] [l.take 4, (l.drop 8).take (Crc.rd4 l)]) ∧ Hid (f 4 = true → v29 = .int .u32 (X : Int)) ∧ Hid (f 5 = true → v30 = Value.slice a m c) ∧ Hid (f 6 = true → v31 = v5) ∧ Hid (f 7 = true → v32 = .int .u32 (Y : Int)) ∧ Hid (f 8 = true → v33 = .bool ((X : Int) != (Y : Int)))) (by kernel_rfl) (by kernel_rfl) ?_ ?_ ?_
  · exact ⟨_, _, _, _, _, _, _, _, _, rfl, hide ((below_drewN (Below.refl _ _) n).drew), hide (fun h => Bool.noConfusion h), hide (fun h => Bool.noConfusion h), hide (fun h => Bool.noConfusion h), hide (fun h => Bool.noConfusion h), hide (fun h => Bool.noConfusion h), hide (fun h => Bool.noConfusion h), hide (fun h => Bool.noConfusion h), hide (fun h => Bool.noConfusion h), hide (fun h => Bool.noConfusion h)⟩
  · intro i hi f q wx hfi hB hI
    obtain ⟨v25, v26, v27, v28, v29, v30, v31, v32, v33, rfl, HR, F0, F1, F2, F3, F4, F5, F6, F7, F8⟩ := hI
    have hin : i < 9 := hi
    have hic : i = 0 ∨ i = 1 ∨ i = 2 ∨ i = 3 ∨ i = 4 ∨ i = 5 ∨ i = 6 ∨ i = 7 ∨ i = 8 := by omega
    clear hi hin
    rcases hic with rfl | rfl | rfl | rfl | rfl | rfl | rfl | rfl | rfl
    · skip
      refine wpOp_list' (o := _) rfl (fun K hK => ?_)
      go_wp2_with fail
      exact hK.out _ _ ⟨_, _, _, _, _, _, _, _, _, rfl, HR, hide (fun _ => rfl), F1, F2, F3, F4, F5, F6, F7, F8⟩
    · skip
      have d0 := F0.out (hB.dep 0 (by kernel_rfl))
      rw [d0]
      clear d0
      refine wpOp_list' (o := _) rfl (fun K hK => ?_)
      go_wp2_with (refine wpList_part rfl (.tmp 25) none (some (.const (.int .i64 4))) rfl v4 RP4.out ?_)
      exact hK.out _ _ ⟨_, _, _, _, _, _, _, _, _, rfl, HR, hide (fun _ => rfl), hide (fun _ => rfl), F2, F3, F4, F5, F6, F7, F8⟩
    · skip
      refine wpOp_list' (o := _) rfl (fun K hK => ?_)
      go_wp2_with fail
      exact hK.out _ _ ⟨_, _, _, _, _, _, _, _, _, rfl, HR, F0, F1, hide (fun _ => rfl), F3, F4, F5, F6, F7, F8⟩
    · skip
      have d1 := F1.out (hB.dep 1 (by kernel_rfl))
      rw [d1]
      clear d1
      have d2 := F2.out (hB.dep 2 (by kernel_rfl))
      rw [d2]
      clear d2
      refine wpOp_list' (o := _) rfl (fun K hK => ?_)
      obtain ⟨a4, n4, k4, hv4⟩ := FM4.out
      obtain ⟨ap, np, kp, hvp⟩ := FMP.out
      have T2 := hide (rdp_two (HP4.out.keep HR.out) (HP.out.keep HR.out))
      rw [hv4, hvp] at T2
      rw [hv4, hvp]
      have HV4 := hide hv4
      have HVP := hide hvp
      clear hv4 hvp
      go_wp2_with fail
      rw [← HV4.out, ← HVP.out] at T2
      rw [← HV4.out, ← HVP.out]
      have hbl := (one_blk wx (.cells #[v4, vp] 22))
      have HR := hide (HR.out.trans (hbl.mono HR.out.size))
      exact hK.out _ _ ⟨_, _, _, _, _, _, _, _, _, rfl, HR, F0, hide (fun _ => rfl), hide (fun _ => rfl), hide (fun _ => T2.out), F4, F5, F6, F7, F8⟩
    · skip
      have d3 := F3.out (hB.dep 3 (by kernel_rfl))
      refine wpOp_list' (o := _) rfl (fun K hK => ?_)
      go_wp2_with fail
      refine (EX _ _ d3).out.mono ?_
      rintro e wy ⟨rfl, hb⟩
      go_wp2_with fail
      have hbl := hb
      have HR := hide (HR.out.trans (hbl.mono HR.out.size))
      exact hK.out _ _ ⟨_, _, _, _, _, _, _, _, _, rfl, HR, F0, F1, F2, hide (fun h => (F3.out h).keep hbl), hide (fun _ => rfl), F5, F6, F7, F8⟩
    · skip
      refine wpOp_list' (o := _) rfl (fun K hK => ?_)
      go_wp2_with fail
      exact hK.out _ _ ⟨_, _, _, _, _, _, _, _, _, rfl, HR, F0, F1, F2, F3, F4, hide (fun _ => rfl), F6, F7, F8⟩
    · skip
      have d5 := F5.out (hB.dep 5 (by kernel_rfl))
      rw [d5]
      clear d5
      refine wpOp_list' (o := _) rfl (fun K hK => ?_)
      go_wp2_with (refine wpList_part rfl (.tmp 30) (some (.const (.int .i64 4))) none rfl v5 RP5.out ?_)
      exact hK.out _ _ ⟨_, _, _, _, _, _, _, _, _, rfl, HR, F0, F1, F2, F3, F4, hide (fun _ => rfl), hide (fun _ => rfl), F7, F8⟩
    · skip
      have d6 := F6.out (hB.dep 6 (by kernel_rfl))
      rw [d6]
      clear d6
      refine wpOp_list' (o := _) rfl (fun K hK => ?_)
      go_wp2_with fail
      refine (N5 _ HR.out).out.mono ?_
      rintro e wy ⟨rfl, ny, rfl⟩
      go_wp2_with fail
      have hbl := (below_drewN (Below.refl wx.heap.size wx) ny)
      have HR := hide (HR.out.trans (hbl.mono HR.out.size))
      exact hK.out _ _ ⟨_, _, _, _, _, _, _, _, _, rfl, HR, F0, F1, F2, hide (fun h => (F3.out h).keep hbl), F4, F5, hide (fun _ => rfl), hide (fun _ => rfl), F8⟩
    · skip
      have d4 := F4.out (hB.dep 4 (by kernel_rfl))
      rw [d4]
      clear d4
      have d7 := F7.out (hB.dep 7 (by kernel_rfl))
      rw [d7]
      clear d7
      refine wpOp_list' (o := _) rfl (fun K hK => ?_)
      go_wp2_with fail
      exact hK.out _ _ ⟨_, _, _, _, _, _, _, _, _, rfl, HR, F0, F1, F2, F3, hide (fun _ => rfl), F5, F6, hide (fun _ => rfl), hide (fun _ => rfl)⟩
  · intro f q wx hall hI
    obtain ⟨v25, v26, v27, v28, v29, v30, v31, v32, v33, rfl, HR, F0, F1, F2, F3, F4, F5, F6, F7, F8⟩ := hI
    have e8 := F8.out (hall 8 (by decide))
    rw [e8]
    clear e8 F0 F1 F2 F3 F4 F5 F6 F7 F8 hall
    by_cases hxy : X = Y
    · have HE := hide (HCE.out.trans (if_pos hxy))
      have nb : ((X : Int) != (Y : Int)) = false := by rw [hxy]; simp
      have HNP := hide (Crc.nxt_ok HE.out)
      rw [nb]
      clear nb hxy
      go_wp2_with fail
      exact bodyPost_ret (v := .tuple #[vp, .int .i64 (8 + R), .int .i64 0]) (by simp [results, Try.results32, go_sem]) rfl ⟨vp, by rw [HE.out, HNP.out.2.2.1, HRR.out]; simp, by rw [HNP.out.2.2.2.2]; exact HP.out, HR.out⟩
    · have HE := hide (HCE.out.trans (if_neg hxy))
      have nb : ((X : Int) != (Y : Int)) = true := by simp; omega
      rw [nb]
      clear nb hxy
      go_wp2_with fail
      exact bodyPost_ret (v := .tuple #[.slice none 0 0, .int .i64 0, .int .i64 18]) (by simp [results, Try.results32, go_sem]) rfl (frP_bad HE.out rfl (by decide) HR.out)
end Go.Proofs.Ytgjdaipofekjfaa
