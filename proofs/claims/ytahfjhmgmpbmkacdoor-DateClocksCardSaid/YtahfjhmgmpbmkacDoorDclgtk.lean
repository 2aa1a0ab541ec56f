/-
  Parts of the walk of DateClocks.
-/
import Derived.Test.YtahfjhmgmpbmkacDoorDaP
namespace Go.Proofs.YtahfjhmgmpbmkacDoor
open Go.RowKit
set_option linter.unusedVariables false

set_option maxHeartbeats 4000000 in
set_option maxRecDepth 20000 in
theorem dcl_gtk (a0 b a1 A : Int) (B : Int) (d : Int) (w : World) (TT : Hid (Tabs w)) (d0 : ∀ w, Calls Tryd.prog 14 #[.int .i64 a0] w fun e w' => e = .returned (.int .i64 A) ∧ w = w') (d1 : ∀ w, Calls Tryd.prog 14 #[.int .i64 a1] w fun e w' => e = .returned (.int .i64 B) ∧ w = w') (hc : B < A) (y : Int) (k : Nat) (IM : InMonth A y k) (v1 : 0 ≤ b) (v2 : b ≤ 1439) :
    Calls Tryd.prog 11 #[.agg #[.int .i64 a0, .int .i64 b], .agg #[.int .i64 a1, .int .i64 d]] w fun e w' => e = .returned (.bool true) ∧ Below w.heap.size w w' := by
  have e1 : cmpC A b B d = 1 := by unfold cmpC cmpI; rw [if_neg (show ¬ A < B by omega), if_pos hc]; rfl
  have e2 : cmpC B d A b = -1 := by unfold cmpC cmpI; rw [if_pos hc]; rfl
  have cc1 := fun w => hide (cc_any A b B d w)
  have cc2 := fun w => hide (cc_any B d A b w)
  rw [e1] at cc1
  rw [e2] at cc2
  clear e1 e2
  have B0 := hide (((Below.refl w.heap.size w).alloc (Nat.le_refl _) (.cells #[.int .i64 a0, .int .i64 b] 55)).alloc (by simp) (.cells #[.int .i64 a1, .int .i64 d] 55))
  have X0 := hide (bx_new w a0 b a1 d)
  have rd := fun w => hide (rday_any A w)
  have fm := fun w T => hide (fcl_in A y b k w T IM v1 v2)
  have pc := fun w T => hide (pc_ctxt A y b k w T IM v1 v2)
  have rf := fun w T => hide (rfcl_in A y b k w T IM v1 v2)
  rw [dayB_yes (by have := IM.lo; have := ny_mono IM.y1; rw [ny_2000] at this; omega) (by have := IM.hi; have := IM.y2; have := ny_mono (show y + 1 ≤ 2200 by omega); rw [ny_2200] at this; omega)] at rd
  clear IM
  generalize (⟨⟨ctxt y ((k : Int) + 1) (A - NY y - cum y k + 1) (b / 60) (b % 60)⟩⟩ : ByteArray) = S at *
  go_enter Tryd.func11, Tryd.ntmps11
  go_wp2_with fail
  generalize hW : (w.alloc (.cells #[.int .i64 a0, .int .i64 b] 55)).alloc (.cells #[.int .i64 a1, .int .i64 d] 55) = W at *
  clear hW
  refine (known_any _ (TT.out.keep B0.out)).mono ?_
  rintro e w1 ⟨rfl, hb⟩
  have X1 := hide (X0.out.keep hb)
  have B1 := hide (B0.out.trans (hb.mono B0.out.size))
  clear hb X0
  obtain ⟨g, hg⟩ : ∃ g, g = w.heap.size := ⟨_, rfl⟩
  go_upto_region 3 with fail
  go_cut [13] (fun s13 wx => s13 = .pointer (some ⟨w.heap.size, 0, none⟩) ∧ Hid (Bx w.heap.size (w.heap.size + 1) A b B d wx) ∧ Hid (Below w.heap.size w wx))
  case first =>
    obtain ⟨q0, q1, q2, q3, q4, q5, q6, q7⟩ := X1.out
    go_region_with (first | (go_at_call_of 14 (Value.int .i64 a0); refine (d0 _).mono ?_; rintro e w' ⟨rfl, rfl⟩) | (go_at_call_of 14 (Value.int .i64 a1); refine (d1 _).mono ?_; rintro e w' ⟨rfl, rfl⟩))
    all_goals go_wp2_with fail
    all_goals
      go_meet
      case rel => exact ⟨rfl, hide (bx_set X1.out A B), hide ((B1.out.drew.setCell (Nat.le_refl _) _).setCell (Nat.le_succ _) _)⟩
  case rest =>
    obtain ⟨rfl, X, BX⟩ := hcut
    obtain ⟨q0, q1, q2, q3, q4, q5, q6, q7⟩ := X.out
    go_wp2_with fail
    refine (cc1 _).out.mono ?_
    rintro e w2 ⟨rfl, hb⟩
    have X2 := hide (X.out.keep hb)
    have B2 := hide (BX.out.trans (hb.mono BX.out.size))
    clear hb q0 q1 q2 q3 q4 q5 q6 q7
    obtain ⟨q0, q1, q2, q3, q4, q5, q6, q7⟩ := X2.out
    go_wp2_with fail
    refine (cc2 _).out.mono ?_
    rintro e w3 ⟨rfl, hb⟩
    have X3 := hide (X2.out.keep hb)
    have B3 := hide (B2.out.trans (hb.mono B2.out.size))
    clear hb q0 q1 q2 q3 q4 q5 q6 q7
    obtain ⟨q0, q1, q2, q3, q4, q5, q6, q7⟩ := X3.out
    go_wp2_with fail
    refine (fm _ (TT.out.keep B3.out)).out.mono ?_
    rintro e w4 ⟨rfl, hb⟩
    have X4 := hide (X3.out.keep hb)
    have B4 := hide (B3.out.trans (hb.mono B3.out.size))
    clear hb q0 q1 q2 q3 q4 q5 q6 q7
    obtain ⟨q0, q1, q2, q3, q4, q5, q6, q7⟩ := X4.out
    go_wp2_with fail
    refine (rd _).out.mono ?_
    rintro e w5 ⟨rfl, rfl⟩
    go_wp2_with fail
    refine (pc _ (TT.out.keep B4.out)).out.mono ?_
    rintro e w6 ⟨rfl, hb⟩
    have X6 := hide ((X4.out.keep hb).keep ((Below.refl w6.heap.size w6).alloc (Nat.le_refl _) (.cells #[.int .i64 A, .int .i64 b] 55)))
    have B6 := hide (B4.out.trans (hb.mono B4.out.size))
    have B7 := hide (B6.out.alloc B6.out.size (.cells #[.int .i64 A, .int .i64 b] 55))
    have P7 := hide (pr_new w6 A b)
    clear hb q0 q1 q2 q3 q4 q5 q6 q7
    obtain ⟨q0, q1, q2, q3, q4, q5, q6, q7⟩ := X6.out
    go_wp2_with fail
    generalize w6.alloc (.cells #[.int .i64 A, .int .i64 b] 55) = W7 at *
    generalize w6.heap.size = g6 at *
    refine (rf _ (TT.out.keep B7.out)).out.mono ?_
    rintro e w8 ⟨rfl, hb⟩
    have X8 := hide (X6.out.keep hb)
    have B8 := hide (B7.out.trans (hb.mono B7.out.size))
    obtain ⟨r0, r1, r2⟩ := P7.out.keep hb
    clear hb q0 q1 q2 q3 q4 q5 q6 q7
    obtain ⟨q0, q1, q2, q3, q4, q5, q6, q7⟩ := X8.out
    go_wp2_with fail
    go_ret
    exact ⟨rfl, B8.out⟩
end Go.Proofs.YtahfjhmgmpbmkacDoor
