/-
  The walk of DateTexts.
-/
import Derived.Test.YtahfjhmgmpbmkacDoorDaH
import Derived.Laws.Strings
import Derived.Lib.MinMaxS
namespace Go.Proofs.YtahfjhmgmpbmkacDoor
open Go.RowKit
set_option linter.unusedVariables false

/-- What the text of a day parses to. -/
theorem pa_txt (n y : Int) (k : Nat) (w : World) (T : Tabs w) (h : InMonth n y k) :
    Calls Tryd.prog 36 #[.string ⟨⟨txt y ((k : Int) + 1) (n - NY y - cum y k + 1)⟩⟩] w fun e w' => e = .returned (.tuple #[.int .i64 n, .int .i64 0]) ∧ Below w.heap.size w w' := by
  have i := in2_of h
  have := pa_yes _ w T (txt_form i)
  obtain ⟨a, b, c⟩ := txt_nv i
  obtain ⟨p, q⟩ := fc_back n y k h
  rw [a, b, c, p, q] at this
  exact this
theorem less_of (a b : ByteArray) (h : a.data.toList < b.data.toList) : Op.bytesLess a.toList b.toList = true := by
  rw [Proofs.bytesLess_eq]
  simpa [Lib.toList_data] using h
theorem less_no (a b : ByteArray) (h : ¬ a.data.toList < b.data.toList) : Op.bytesLess a.toList b.toList = false := by
  rw [Proofs.bytesLess_eq]
  simpa [Lib.toList_data] using h

set_option maxRecDepth 20000 in
set_option maxHeartbeats 4000000 in
theorem dateTexts_walk (a0 a1 : Int) (w : World) (w0 : (Lit.int .i64 a0).wf = true) (w1 : (Lit.int .i64 a1).wf = true) (hL : laidMetH Tryd.prog laid w) :
    Calls Tryd.prog 9 #[.int .i64 a0, .int .i64 a1] w fun e w' => e = .returned (.bool true) ∧ Below w.heap.size w w' := by
  have T := tabs_of hL
  have kn := hide (known_any w T)
  have TT := hide T
  clear T hL w0 w1
  have dy := fun n w => hide (day_any n w)
  have rd := fun n w => hide (rday_any n w)
  generalize hM : dayV a0 = M at *
  generalize hN : dayV a1 = N at *
  have d0 := dy a0
  have d1 := dy a1
  rw [hM] at d0
  rw [hN] at d1
  have r0 := rd M
  have r1 := rd N
  clear dy rd hM hN
  by_cases hm : 0 ≤ M ∧ M ≤ 73048
  · obtain ⟨y, k, IM⟩ := inMonth_ex M hm.1 hm.2
    have f0 := fun w T => hide (fm_txt M y k w T IM)
    have g0 := fun w T => hide (rfm_in M y k w T IM)
    have p0 := fun w T => hide (pa_txt M y k w T IM)
    have ss0 : (⟨⟨txt y ((k : Int) + 1) (M - NY y - cum y k + 1)⟩⟩ : ByteArray).data.toList = txt y ((k : Int) + 1) (M - NY y - cum y k + 1) := rfl
    rw [dayB_yes hm.1 hm.2] at r0
    by_cases hn : 0 ≤ N ∧ N ≤ 73048
    · obtain ⟨y', k', IN⟩ := inMonth_ex N hn.1 hn.2
      have f1 := fun w T => hide (fm_txt N y' k' w T IN)
      have g1 := fun w T => hide (rfm_in N y' k' w T IN)
      have ss1 : (⟨⟨txt y' ((k' : Int) + 1) (N - NY y' - cum y' k' + 1)⟩⟩ : ByteArray).data.toList = txt y' ((k' : Int) + 1) (N - NY y' - cum y' k' + 1) := rfl
      rw [dayB_yes hn.1 hn.2] at r1
      have i1 := in2_of IM
      have i2 := in2_of IN
      have lt1 := hide (fun h => txt_lt i1 i2 (inMonth_lt IM IN h))
      have lt2 := hide (fun h => txt_lt i2 i1 (inMonth_lt IN IM h))
      have lt3 : M = N → txt y ((k : Int) + 1) (M - NY y - cum y k + 1) = txt y' ((k' : Int) + 1) (N - NY y' - cum y' k' + 1) := fun h => by
        rcases Classical.em (y < y' ∨ y' < y) with q | q
        · exfalso
          rcases q with q | q
          · have := ny_mono (show y + 1 ≤ y' by omega); have := IM.hi; have := IN.lo; omega
          · have := ny_mono (show y' + 1 ≤ y by omega); have := IN.hi; have := IM.lo; omega
        · obtain rfl : y = y' := by omega
          rcases Classical.em (k < k' ∨ k' < k) with q' | q'
          · exfalso
            rcases q' with q' | q'
            · have := cum_mono y (show k + 1 ≤ k' by omega); have := IM.c2; have := IN.c1; omega
            · have := cum_mono y (show k' + 1 ≤ k by omega); have := IN.c2; have := IM.c1; omega
          · obtain rfl : k = k' := by omega
            rw [h]
      have LT : Hid (Op.bytesLess (⟨⟨txt y ((k : Int) + 1) (M - NY y - cum y k + 1)⟩⟩ : ByteArray).toList (⟨⟨txt y' ((k' : Int) + 1) (N - NY y' - cum y' k' + 1)⟩⟩ : ByteArray).toList = decide (M < N)) := by
        apply hide
        by_cases h : M < N
        · rw [decide_eq_true h]; exact less_of _ _ (lt1.out h)
        · rw [decide_eq_false h]
          refine less_no _ _ ?_
          by_cases h' : N < M
          · have := lt2.out h'
            exact fun x => List.lt_asymm x this
          · rw [ss0, ss1, lt3 (by omega)]
            exact List.lt_irrefl _
      clear lt1 lt2 lt3 ss0 ss1 i1 i2 IM IN hm hn
      generalize (⟨⟨txt y ((k : Int) + 1) (M - NY y - cum y k + 1)⟩⟩ : ByteArray) = S at *
      generalize (⟨⟨txt y' ((k' : Int) + 1) (N - NY y' - cum y' k' + 1)⟩⟩ : ByteArray) = S' at *
      by_cases hlt : M < N
      · have L := LT.out
        rw [decide_eq_true hlt] at L
        clear LT
        go_enter Tryd.func9, Tryd.ntmps9
        go_wp2_with fail
        refine kn.out.mono ?_
        rintro e w1 ⟨rfl, hb⟩
        have T1 := hide (TT.out.keep hb)
        have B1 := hide hb
        clear hb
        go_wp2_with fail
        refine (d0 _).out.mono ?_
        rintro e w2 ⟨rfl, rfl⟩
        go_wp2_with fail
        refine (d1 _).out.mono ?_
        rintro e w3 ⟨rfl, rfl⟩
        go_wp2_with fail
        refine (f0 _ T1.out).out.mono ?_
        rintro e w2 ⟨rfl, hb⟩
        have T2 := hide (T1.out.keep hb)
        have B2 := hide (B1.out.trans (hb.mono B1.out.size))
        clear hb
        go_wp2_with fail
        refine (f1 _ T2.out).out.mono ?_
        rintro e w3 ⟨rfl, hb⟩
        have T3 := hide (T2.out.keep hb)
        have B3 := hide (B2.out.trans (hb.mono B2.out.size))
        clear hb
        go_wp2_with fail
        refine (r0 _).out.mono ?_
        rintro e w4 ⟨rfl, rfl⟩
        go_wp2_with fail
        refine (r1 _).out.mono ?_
        rintro e w4 ⟨rfl, rfl⟩
        go_wp2_with fail
        refine (p0 _ T3.out).out.mono ?_
        rintro e w4 ⟨rfl, hb⟩
        have T4 := hide (T3.out.keep hb)
        have B4 := hide (B3.out.trans (hb.mono B3.out.size))
        clear hb
        go_wp2_with fail
        refine (g0 _ T4.out).out.mono ?_
        rintro e w5 ⟨rfl, hb⟩
        have T5 := hide (T4.out.keep hb)
        have B5 := hide (B4.out.trans (hb.mono B4.out.size))
        clear hb
        go_wp2_with fail
        refine (g1 _ T5.out).out.mono ?_
        rintro e w6 ⟨rfl, hb⟩
        have B6 := hide (B5.out.trans (hb.mono B5.out.size))
        clear hb
        go_wp2_with fail
        go_ret
        exact ⟨rfl, B6.out⟩
      · have L := LT.out
        rw [decide_eq_false hlt] at L
        clear LT
        have hge : N ≤ M := by omega
        have hd : decide (M < N) = false := decide_eq_false hlt
        go_enter Tryd.func9, Tryd.ntmps9
        go_wp2_with fail
        refine kn.out.mono ?_
        rintro e w1 ⟨rfl, hb⟩
        have T1 := hide (TT.out.keep hb)
        have B1 := hide hb
        clear hb
        go_wp2_with fail
        refine (d0 _).out.mono ?_
        rintro e w2 ⟨rfl, rfl⟩
        go_wp2_with fail
        refine (d1 _).out.mono ?_
        rintro e w3 ⟨rfl, rfl⟩
        go_wp2_with fail
        refine (f0 _ T1.out).out.mono ?_
        rintro e w2 ⟨rfl, hb⟩
        have T2 := hide (T1.out.keep hb)
        have B2 := hide (B1.out.trans (hb.mono B1.out.size))
        clear hb
        go_wp2_with fail
        refine (f1 _ T2.out).out.mono ?_
        rintro e w3 ⟨rfl, hb⟩
        have T3 := hide (T2.out.keep hb)
        have B3 := hide (B2.out.trans (hb.mono B2.out.size))
        clear hb
        go_wp2_with fail
        refine (r0 _).out.mono ?_
        rintro e w4 ⟨rfl, rfl⟩
        go_wp2_with fail
        refine (r1 _).out.mono ?_
        rintro e w4 ⟨rfl, rfl⟩
        go_wp2_with fail
        refine (p0 _ T3.out).out.mono ?_
        rintro e w4 ⟨rfl, hb⟩
        have T4 := hide (T3.out.keep hb)
        have B4 := hide (B3.out.trans (hb.mono B3.out.size))
        clear hb
        go_wp2_with fail
        refine (g0 _ T4.out).out.mono ?_
        rintro e w5 ⟨rfl, hb⟩
        have T5 := hide (T4.out.keep hb)
        have B5 := hide (B4.out.trans (hb.mono B4.out.size))
        clear hb
        go_wp2_with fail
        refine (g1 _ T5.out).out.mono ?_
        rintro e w6 ⟨rfl, hb⟩
        have B6 := hide (B5.out.trans (hb.mono B5.out.size))
        clear hb
        go_wp2_with fail
        go_ret
        exact ⟨rfl, B6.out⟩
    · have f1 := fun w => hide (fm_no N w (by omega))
      rw [dayB_no (show N < 0 ∨ 73048 < N by omega)] at r1
      clear IM hm hn p0 g0 ss0
      generalize (⟨⟨txt y ((k : Int) + 1) (M - NY y - cum y k + 1)⟩⟩ : ByteArray) = S at *
      go_enter Tryd.func9, Tryd.ntmps9
      go_wp2_with fail
      refine kn.out.mono ?_
      rintro e w1 ⟨rfl, hb⟩
      have T1 := hide (TT.out.keep hb)
      have B1 := hide hb
      clear hb
      go_wp2_with fail
      refine (d0 _).out.mono ?_
      rintro e w2 ⟨rfl, rfl⟩
      go_wp2_with fail
      refine (d1 _).out.mono ?_
      rintro e w3 ⟨rfl, rfl⟩
      go_wp2_with fail
      refine (f0 _ T1.out).out.mono ?_
      rintro e w2 ⟨rfl, hb⟩
      have B2 := hide (B1.out.trans (hb.mono B1.out.size))
      clear hb
      go_wp2_with fail
      refine (f1 _).out.mono ?_
      rintro e w3 ⟨rfl, hb⟩
      have B3 := hide (B2.out.trans (hb.mono B2.out.size))
      clear hb
      go_wp2_with fail
      refine (r0 _).out.mono ?_
      rintro e w4 ⟨rfl, rfl⟩
      go_wp2_with fail
      refine (r1 _).out.mono ?_
      rintro e w4 ⟨rfl, rfl⟩
      go_wp2_with fail
      refine (r0 _).out.mono ?_
      rintro e w4 ⟨rfl, rfl⟩
      go_wp2_with fail
      refine (r1 _).out.mono ?_
      rintro e w4 ⟨rfl, rfl⟩
      go_wp2_with fail
      go_ret
      exact ⟨rfl, B3.out⟩
  · have f0 := fun w => hide (fm_no M w (by omega))
    rw [dayB_no (show M < 0 ∨ 73048 < M by omega)] at r0
    by_cases hn : 0 ≤ N ∧ N ≤ 73048
    · obtain ⟨y', k', IN⟩ := inMonth_ex N hn.1 hn.2
      have f1 := fun w T => hide (fm_txt N y' k' w T IN)
      rw [dayB_yes hn.1 hn.2] at r1
      clear IN hm hn
      generalize (⟨⟨txt y' ((k' : Int) + 1) (N - NY y' - cum y' k' + 1)⟩⟩ : ByteArray) = S' at *
      go_enter Tryd.func9, Tryd.ntmps9
      go_wp2_with fail
      refine kn.out.mono ?_
      rintro e w1 ⟨rfl, hb⟩
      have T1 := hide (TT.out.keep hb)
      have B1 := hide hb
      clear hb
      go_wp2_with fail
      refine (d0 _).out.mono ?_
      rintro e w2 ⟨rfl, rfl⟩
      go_wp2_with fail
      refine (d1 _).out.mono ?_
      rintro e w3 ⟨rfl, rfl⟩
      go_wp2_with fail
      refine (f0 _).out.mono ?_
      rintro e w2 ⟨rfl, hb⟩
      have T2 := hide (T1.out.keep hb)
      have B2 := hide (B1.out.trans (hb.mono B1.out.size))
      clear hb
      go_wp2_with fail
      refine (f1 _ T2.out).out.mono ?_
      rintro e w3 ⟨rfl, hb⟩
      have B3 := hide (B2.out.trans (hb.mono B2.out.size))
      clear hb
      go_wp2_with fail
      refine (r0 _).out.mono ?_
      rintro e w4 ⟨rfl, rfl⟩
      go_wp2_with fail
      refine (r0 _).out.mono ?_
      rintro e w4 ⟨rfl, rfl⟩
      go_wp2_with fail
      refine (r1 _).out.mono ?_
      rintro e w4 ⟨rfl, rfl⟩
      go_wp2_with fail
      go_ret
      exact ⟨rfl, B3.out⟩
    · have f1 := fun w => hide (fm_no N w (by omega))
      rw [dayB_no (show N < 0 ∨ 73048 < N by omega)] at r1
      clear hm hn
      go_enter Tryd.func9, Tryd.ntmps9
      go_wp2_with fail
      refine kn.out.mono ?_
      rintro e w1 ⟨rfl, hb⟩
      have B1 := hide hb
      clear hb
      go_wp2_with fail
      refine (d0 _).out.mono ?_
      rintro e w2 ⟨rfl, rfl⟩
      go_wp2_with fail
      refine (d1 _).out.mono ?_
      rintro e w3 ⟨rfl, rfl⟩
      go_wp2_with fail
      refine (f0 _).out.mono ?_
      rintro e w2 ⟨rfl, hb⟩
      have B2 := hide (B1.out.trans (hb.mono B1.out.size))
      clear hb
      go_wp2_with fail
      refine (f1 _).out.mono ?_
      rintro e w3 ⟨rfl, hb⟩
      have B3 := hide (B2.out.trans (hb.mono B2.out.size))
      clear hb
      go_wp2_with fail
      refine (r0 _).out.mono ?_
      rintro e w4 ⟨rfl, rfl⟩
      go_wp2_with fail
      refine (r0 _).out.mono ?_
      rintro e w4 ⟨rfl, rfl⟩
      go_wp2_with fail
      refine (r1 _).out.mono ?_
      rintro e w4 ⟨rfl, rfl⟩
      go_wp2_with fail
      go_ret
      exact ⟨rfl, B3.out⟩
end Go.Proofs.YtahfjhmgmpbmkacDoor
