/-
  The walk of DateParse.
-/
import Derived.Test.YtahfjhmgmpbmkacDoorDaK
import Derived.Test.YtahfjhmgmpbmkacDoorDaL
namespace Go.Proofs.YtahfjhmgmpbmkacDoor
open Go.RowKit
set_option linter.unusedVariables false

theorem inMonth_of {Y D : Int} {k : Nat} (h : 1 ≤ D ∧ D ≤ dim Y ((k : Int) + 1)) : InMonth (num Y ((k : Int) + 1) D) Y k ∧ num Y ((k : Int) + 1) D - NY Y - cum Y k + 1 = D := by
  obtain ⟨y1, y2, p1, p2⟩ := dim_pos (y := Y) (m := (k : Int) + 1) (by omega)
  have k12 : k < 12 := by omega
  have e : ((k : Int) + 1 - 1).toNat = k := by omega
  have c0 := (cum_bd Y k).1
  have c1 : cum Y (k + 1) = cum Y k + dim Y ((k : Int) + 1) := rfl
  have c2 := cum_mono Y (show k + 1 ≤ 12 by omega)
  have c3 := cum_12 Y y1 y2
  unfold num
  rw [e]
  exact ⟨⟨y1, y2, by omega, by omega, k12, by omega, by omega⟩, by omega⟩
/-- The day of a valid date, and its text. -/
theorem day_of {Y M D : Int} (h : fcE Y M D = 0) : ∃ k : Nat, M = (k : Int) + 1 ∧ InMonth (fcV Y M D) Y k ∧ fcV Y M D - NY Y - cum Y k + 1 = D := by
  have hv : 1 ≤ D ∧ D ≤ dim Y M := by
    unfold fcE at h
    split at h
    · next q => exact q
    · exact absurd h (by decide)
  obtain ⟨y1, y2, p1, p2⟩ := dim_pos (y := Y) (m := M) (by omega)
  obtain ⟨k, rfl⟩ : ∃ k : Nat, M = (k : Int) + 1 := ⟨(M - 1).toNat, by omega⟩
  have e : fcV Y ((k : Int) + 1) D = num Y ((k : Int) + 1) D := by unfold fcV; rw [if_pos hv]
  rw [e]
  exact ⟨k, rfl, (inMonth_of hv).1, (inMonth_of hv).2⟩
theorem fcE_or (Y M D : Int) : fcE Y M D = 0 ∨ fcE Y M D = 28 := by unfold fcE; split <;> simp
theorem fcV_bad {Y M D : Int} (h : fcE Y M D = 28) : fcV Y M D = 0 := by
  unfold fcE at h; unfold fcV
  split at h
  · exact absurd h (by decide)
  · next q => rw [if_neg q]
/-- Two cells of a point in time. -/
def Pr (b : Nat) (x y : Int) (W : World) : Prop := W.cell? ⟨b, 0, none⟩ = some (.int .i64 x) ∧ W.cell? ⟨b, 1, none⟩ = some (.int .i64 y) ∧ b < W.heap.size
theorem Pr.keep {b : Nat} {x y : Int} {W W' : World} (h : Pr b x y W) (hb : Below W.heap.size W W') : Pr b x y W' :=
  ⟨(hb.cell (p := ⟨b, 0, none⟩) h.2.2).trans h.1, (hb.cell (p := ⟨b, 1, none⟩) h.2.2).trans h.2.1, Nat.lt_of_lt_of_le h.2.2 hb.size⟩
theorem pr_new (W : World) (x y : Int) : Pr W.heap.size x y (W.alloc (.cells #[.int .i64 x, .int .i64 y] 55)) := by
  refine ⟨?_, ?_, by simp⟩ <;> simp [go_sem]

set_option maxRecDepth 20000 in
set_option maxHeartbeats 4000000 in
theorem dp_fail (s : ByteArray) (w : World) (T : Tabs w) (E F : Int) (hE : E ≠ 0) (hF : F ≠ 0)
    (pa : ∀ w, Tabs w → Calls Tryd.prog 36 #[.string s] w fun e w' => e = .returned (.tuple #[.int .i64 0, .int .i64 E]) ∧ Below w.heap.size w w')
    (rp : ∀ w, Calls Tryd.prog 38 #[.string s] w fun e w' => e = .returned (.tuple #[.int .i64 0, .int .i64 E]) ∧ Below w.heap.size w w')
    (pc : ∀ w, Tabs w → Calls Tryd.prog 39 #[.string s] w fun e w' => e = .returned (.tuple #[.agg #[.int .i64 0, .int .i64 0], .int .i64 F]) ∧ Below w.heap.size w w')
    (rc : ∀ w, Calls Tryd.prog 40 #[.string s] w fun e w' => e = .returned (.tuple #[.int .i64 0, .int .i64 0, .int .i64 F]) ∧ Below w.heap.size w w') :
    Calls Tryd.prog 10 #[.string s] w fun e w' => e = .returned (.bool true) ∧ Below w.heap.size w w' := by
  have kn := hide (known_any w T)
  have TT := hide T
  have pa := hide pa
  have rp := hide rp
  have pc := hide pc
  have rc := hide rc
  clear T
  have hE1 : ¬ E = 0 := hE
  have hF1 : ¬ F = 0 := hF
  clear hE hF
  go_enter Tryd.func10, Tryd.ntmps10
  go_wp2_with fail
  refine kn.out.mono ?_
  rintro e w1 ⟨rfl, hb⟩
  have T1 := hide (TT.out.keep hb)
  have B1 := hide hb
  clear hb
  go_wp2_with fail
  refine (pa.out _ T1.out).mono ?_
  rintro e w2 ⟨rfl, hb⟩
  have T2 := hide (T1.out.keep hb)
  have B2 := hide (B1.out.trans (hb.mono B1.out.size))
  clear hb
  go_wp2_with fail
  refine (rp.out _).mono ?_
  rintro e w3 ⟨rfl, hb⟩
  have T3 := hide (T2.out.keep hb)
  have B3 := hide (B2.out.trans (hb.mono B2.out.size))
  clear hb
  go_wp2_with fail
  refine (pc.out _ T3.out).mono ?_
  rintro e w4 ⟨rfl, hb⟩
  have T4 := hide (T3.out.keep hb)
  have B4 := hide (B3.out.trans (hb.mono B3.out.size))
  have B5 := hide (B4.out.alloc B4.out.size (.cells #[.int .i64 0, .int .i64 0] 55))
  have T5 := hide (T4.out.keep ((Below.refl w4.heap.size w4).alloc (Nat.le_refl _) (.cells #[.int .i64 0, .int .i64 0] 55)))
  have P5 := hide (pr_new w4 0 0)
  clear hb
  go_wp2_with fail
  generalize w4.alloc (.cells #[.int .i64 0, .int .i64 0] 55) = W5 at *
  generalize w4.heap.size = g at *
  refine (rc.out _).mono ?_
  rintro e w6 ⟨rfl, hb⟩
  obtain ⟨c0, c1, hg⟩ := P5.out.keep hb
  have T6 := hide (T5.out.keep hb)
  have B6 := hide (B5.out.trans (hb.mono B5.out.size))
  clear hb
  go_wp2_with fail
  go_ret
  exact ⟨rfl, B6.out⟩

set_option maxRecDepth 20000 in
set_option maxHeartbeats 4000000 in
theorem dp_day (s : ByteArray) (w : World) (T : Tabs w) (V : Int)
    (pa : ∀ w, Tabs w → Calls Tryd.prog 36 #[.string s] w fun e w' => e = .returned (.tuple #[.int .i64 V, .int .i64 0]) ∧ Below w.heap.size w w')
    (rp : ∀ w, Calls Tryd.prog 38 #[.string s] w fun e w' => e = .returned (.tuple #[.int .i64 V, .int .i64 0]) ∧ Below w.heap.size w w')
    (pc : ∀ w, Tabs w → Calls Tryd.prog 39 #[.string s] w fun e w' => e = .returned (.tuple #[.agg #[.int .i64 0, .int .i64 0], .int .i64 3]) ∧ Below w.heap.size w w')
    (rc : ∀ w, Calls Tryd.prog 40 #[.string s] w fun e w' => e = .returned (.tuple #[.int .i64 0, .int .i64 0, .int .i64 3]) ∧ Below w.heap.size w w')
    (fm : ∀ w, Tabs w → Calls Tryd.prog 35 #[.int .i64 V] w fun e w' => e = .returned (.tuple #[.string s, .int .i64 0]) ∧ Below w.heap.size w w') :
    Calls Tryd.prog 10 #[.string s] w fun e w' => e = .returned (.bool true) ∧ Below w.heap.size w w' := by
  have kn := hide (known_any w T)
  have TT := hide T
  have pa := hide pa
  have rp := hide rp
  have pc := hide pc
  have rc := hide rc
  clear T
  have fm := hide fm
  go_enter Tryd.func10, Tryd.ntmps10
  go_wp2_with fail
  refine kn.out.mono ?_
  rintro e w1 ⟨rfl, hb⟩
  have T1 := hide (TT.out.keep hb)
  have B1 := hide hb
  clear hb
  go_wp2_with fail
  refine (pa.out _ T1.out).mono ?_
  rintro e w2 ⟨rfl, hb⟩
  have T2 := hide (T1.out.keep hb)
  have B2 := hide (B1.out.trans (hb.mono B1.out.size))
  clear hb
  go_wp2_with fail
  refine (rp.out _).mono ?_
  rintro e w3 ⟨rfl, hb⟩
  have T3 := hide (T2.out.keep hb)
  have B3 := hide (B2.out.trans (hb.mono B2.out.size))
  clear hb
  go_wp2_with fail
  refine (pc.out _ T3.out).mono ?_
  rintro e w4 ⟨rfl, hb⟩
  have T4 := hide (T3.out.keep hb)
  have B4 := hide (B3.out.trans (hb.mono B3.out.size))
  have B5 := hide (B4.out.alloc B4.out.size (.cells #[.int .i64 0, .int .i64 0] 55))
  have T5 := hide (T4.out.keep ((Below.refl w4.heap.size w4).alloc (Nat.le_refl _) (.cells #[.int .i64 0, .int .i64 0] 55)))
  have P5 := hide (pr_new w4 0 0)
  clear hb
  go_wp2_with fail
  generalize w4.alloc (.cells #[.int .i64 0, .int .i64 0] 55) = W5 at *
  generalize w4.heap.size = g at *
  refine (rc.out _).mono ?_
  rintro e w6 ⟨rfl, hb⟩
  obtain ⟨c0, c1, hg⟩ := P5.out.keep hb
  have T6 := hide (T5.out.keep hb)
  have B6 := hide (B5.out.trans (hb.mono B5.out.size))
  clear hb
  go_wp2_with fail
  refine (fm.out _ T6.out).mono ?_
  rintro e w7 ⟨rfl, hb⟩
  have B7 := hide (B6.out.trans (hb.mono B6.out.size))
  clear hb
  go_wp2_with fail
  go_ret
  exact ⟨rfl, B7.out⟩

set_option maxRecDepth 20000 in
set_option maxHeartbeats 4000000 in
theorem dp_clock (s : ByteArray) (w : World) (T : Tabs w) (V M : Int)
    (pa : ∀ w, Tabs w → Calls Tryd.prog 36 #[.string s] w fun e w' => e = .returned (.tuple #[.int .i64 0, .int .i64 3]) ∧ Below w.heap.size w w')
    (rp : ∀ w, Calls Tryd.prog 38 #[.string s] w fun e w' => e = .returned (.tuple #[.int .i64 0, .int .i64 3]) ∧ Below w.heap.size w w')
    (pc : ∀ w, Tabs w → Calls Tryd.prog 39 #[.string s] w fun e w' => e = .returned (.tuple #[.agg #[.int .i64 V, .int .i64 M], .int .i64 0]) ∧ Below w.heap.size w w')
    (rc : ∀ w, Calls Tryd.prog 40 #[.string s] w fun e w' => e = .returned (.tuple #[.int .i64 V, .int .i64 M, .int .i64 0]) ∧ Below w.heap.size w w')
    (fm : ∀ w, Tabs w → Calls Tryd.prog 41 #[.agg #[.int .i64 V, .int .i64 M]] w fun e w' => e = .returned (.tuple #[.string s, .int .i64 0]) ∧ Below w.heap.size w w') :
    Calls Tryd.prog 10 #[.string s] w fun e w' => e = .returned (.bool true) ∧ Below w.heap.size w w' := by
  have kn := hide (known_any w T)
  have TT := hide T
  have pa := hide pa
  have rp := hide rp
  have pc := hide pc
  have rc := hide rc
  clear T
  have fm := hide fm
  go_enter Tryd.func10, Tryd.ntmps10
  go_wp2_with fail
  refine kn.out.mono ?_
  rintro e w1 ⟨rfl, hb⟩
  have T1 := hide (TT.out.keep hb)
  have B1 := hide hb
  clear hb
  go_wp2_with fail
  refine (pa.out _ T1.out).mono ?_
  rintro e w2 ⟨rfl, hb⟩
  have T2 := hide (T1.out.keep hb)
  have B2 := hide (B1.out.trans (hb.mono B1.out.size))
  clear hb
  go_wp2_with fail
  refine (rp.out _).mono ?_
  rintro e w3 ⟨rfl, hb⟩
  have T3 := hide (T2.out.keep hb)
  have B3 := hide (B2.out.trans (hb.mono B2.out.size))
  clear hb
  go_wp2_with fail
  refine (pc.out _ T3.out).mono ?_
  rintro e w4 ⟨rfl, hb⟩
  have T4 := hide (T3.out.keep hb)
  have B4 := hide (B3.out.trans (hb.mono B3.out.size))
  have B5 := hide (B4.out.alloc B4.out.size (.cells #[.int .i64 V, .int .i64 M] 55))
  have T5 := hide (T4.out.keep ((Below.refl w4.heap.size w4).alloc (Nat.le_refl _) (.cells #[.int .i64 V, .int .i64 M] 55)))
  have P5 := hide (pr_new w4 V M)
  clear hb
  go_wp2_with fail
  generalize w4.alloc (.cells #[.int .i64 V, .int .i64 M] 55) = W5 at *
  generalize w4.heap.size = g at *
  refine (rc.out _).mono ?_
  rintro e w6 ⟨rfl, hb⟩
  obtain ⟨c0, c1, hg⟩ := P5.out.keep hb
  have T6 := hide (T5.out.keep hb)
  have B6 := hide (B5.out.trans (hb.mono B5.out.size))
  clear hb
  go_wp2_with fail
  refine (fm.out _ T6.out).mono ?_
  rintro e w7 ⟨rfl, hb⟩
  have B7 := hide (B6.out.trans (hb.mono B6.out.size))
  clear hb
  go_wp2_with fail
  go_ret
  exact ⟨rfl, B7.out⟩

theorem dateParse_walk (a0 : ByteArray) (w : World) (w0 : a0.size ≤ maxLen) (hL : laidMetH Tryd.prog laid w) :
    Calls Tryd.prog 10 #[.string a0] w fun e w' => e = .returned (.bool true) ∧ Below w.heap.size w w' := by
  have T := tabs_of hL
  by_cases h : HasForm a0 dform
  · have nc : ¬ HasForm a0 cform := fun q => not_both q h
    rcases fcE_or (nv a0 0 4) (nv a0 5 2) (nv a0 8 2) with e | e
    · have pa := fun w T => pa_yes a0 w T h
      have rp := fun w => rpa_yes a0 w h
      rw [e] at pa rp
      obtain ⟨k, hM, IM, hD⟩ := day_of e
      refine dp_day a0 w T _ pa rp (fun w _ => pc_no a0 w nc w0) (fun w => rpc_no a0 w nc w0) (fun w T => ?_)
      have := fm_txt _ _ k w T IM
      rw [hD, ← hM, ← form_txt h] at this
      exact this
    · have pa := fun w T => pa_yes a0 w T h
      have rp := fun w => rpa_yes a0 w h
      rw [e, fcV_bad e] at pa rp
      exact dp_fail a0 w T 28 3 (by decide) (by decide) pa rp (fun w _ => pc_no a0 w nc w0) (fun w => rpc_no a0 w nc w0)
  · have pa := fun w (_ : Tabs w) => pa_no a0 w h w0
    have rp := fun w => rpa_no a0 w h w0
    by_cases hc : HasForm a0 cform
    · rcases fcE_or (nv a0 0 4) (nv a0 5 2) (nv a0 8 2) with e | e
      · by_cases h1 : nv a0 11 2 ≤ 23
        · by_cases h2 : nv a0 14 2 ≤ 59
          · have rc := fun w => rpc_yes a0 w hc e h1 h2
            rw [show 60 * nv a0 11 2 + nv a0 14 2 = nv a0 11 2 * 60 + nv a0 14 2 by omega] at rc
            obtain ⟨k, hM, IM, hD⟩ := day_of e
            have n1 := (nv_bd a0 11 2 (by omega) (fun j hj => cdig hc _ (by omega) (by omega) (by omega) (by omega) (by omega))).1
            have n2 := (nv_bd a0 14 2 (by omega) (fun j hj => cdig hc _ (by omega) (by omega) (by omega) (by omega) (by omega))).1
            refine dp_clock a0 w T _ _ pa rp (fun w T => pc_yes a0 w T hc e h1 h2) rc (fun w T => ?_)
            have := fcl_in _ _ (nv a0 11 2 * 60 + nv a0 14 2) k w T IM (by omega) (by omega)
            rw [hD, ← hM, show (nv a0 11 2 * 60 + nv a0 14 2) / 60 = nv a0 11 2 by omega, show (nv a0 11 2 * 60 + nv a0 14 2) % 60 = nv a0 14 2 by omega, ← form_ctxt hc] at this
            exact this
          · exact dp_fail a0 w T 3 2 (by decide) (by decide) pa rp (fun w T => pc_rng2 a0 w T hc e h1 (by omega)) (fun w => rpc_rng2 a0 w hc e h1 (by omega))
        · exact dp_fail a0 w T 3 2 (by decide) (by decide) pa rp (fun w T => pc_rng1 a0 w T hc e (by omega)) (fun w => rpc_rng1 a0 w hc e (by omega))
      · exact dp_fail a0 w T 3 28 (by decide) (by decide) pa rp (fun w T => pc_bad a0 w T hc e w0) (fun w => rpc_bad a0 w hc e)
    · exact dp_fail a0 w T 3 3 (by decide) (by decide) pa rp (fun w _ => pc_no a0 w hc w0) (fun w => rpc_no a0 w hc w0)
end Go.Proofs.YtahfjhmgmpbmkacDoor
