/-
  The reference: decimal.
-/
import Derived.Test.YtnkjppclhhjdmaaRows
import Derived.Test.YtnkjppclhhjdmaaLC
import Derived.WalkKit
import Derived.WalkSpells
import Derived.StillTactics
import Derived.Laws.Pointers
import Derived.Laws.Strings
import Derived.Laws.Strings2
import Derived.Laws.BytesArg
import Derived.LoopTactic
import Derived.Outline
import Derived.Below
import Derived.Laws.Externs
import Derived.Deep.QuietTactic
import Derived.Deep.RegionWith
import Derived.BigQuiet
import Derived.RegionTactic
import Derived.ChangeAlike
import Derived.OwnWalk
import Derived.Laws.OwnMore
import Derived.Laws.Rows
import Derived.Laws.EntriesVeiled
import Derived.Lib.MinMax
import Derived.Lib.Strings
import Derived.Deep.CutBlock
import Derived.Deep.DeepCutAuto
namespace Go.Proofs.Ytnkjppclhhjdmaa
open Go.RowKit
set_option linter.unusedVariables false
set_option linter.unusedSimpArgs false
set_option linter.unnecessarySimpa false

/-- What remains of the reference's decimal, behind the sign: the frame's slots are the caller's. -/
theorem dec2_eq (m : ByteArray) : Lx.dec2 (bn m) = (decide (4 ≤ m.size) && (bn m).getD (m.size - 3) 0 == 46 && Lx.dg ((bn m).getD (m.size - 1) 0) && Lx.dg ((bn m).getD (m.size - 2) 0) && Lx.whole (bn (m.extract 0 (m.size - 3)))) := by
  unfold Lx.dec2
  rw [bn_len, bn_ext, List.drop_zero, Nat.sub_zero]

set_option maxHeartbeats 4000000 in
set_option maxRecDepth 20000 in
theorem rdecimal_any (s : ByteArray) (w : World) (hm : s.size ≤ 100000) : Calls Try.prog 31 #[.string s] w fun e w' => e = .returned (.bool (Lx.decB (bn s))) ∧ w = w' := by
  have hI : (s.size : Int) ≤ 100000 := by omega
  have HE := hide (show Lx.decB (bn s) = (!(s.toList == [45, 48, 46, 48, 48]) && Lx.dec2 (bn (stripS s))) by rw [bn_stripS, toList_is]; rfl)
  cases hz : (s.toList == [45, 48, 46, 48, 48])
  · rw [hz] at HE
    replace HE : Hid (Lx.decB (bn s) = Lx.dec2 (bn (stripS s))) := HE
    by_cases h0 : 0 < s.size
    · have h0' : (0 : Int) < s.size := by omega
      have hA := at0 s h0
      by_cases hx : (bn s).getD 0 0 = 45
      · rw [show stripS s = s.extract 1 s.size from if_pos ⟨h0, hx⟩] at HE
        have gx : ((((s[0]'h0).toNat : Nat)) : Int) = 45 := by rw [hA, hx]; rfl
        have h1 : (1 : Int) ≤ s.size := by omega
        have hm2 : (s.extract 1 s.size).size ≤ 100000 := by rw [ByteArray.size_extract]; omega
        clear hA hx
        go_enter Try.func31, Try.ntmps31
        go_upto_region 5 with fail
        clear gx h1 hI h0' hz
        generalize s.extract 1 s.size = M at *
        have DG := fun c w => hide (rdigit_any c w)
        have WH := fun w => hide (rdigits_any (M.extract 0 (M.size - 3)) w (by rw [ByteArray.size_extract]; omega))
        have D2 := dec2_eq (M)
        have i1 := hide (idxI (M))
        have hMI : ((M).size : Int) ≤ 100000 := by omega
        by_cases h4 : 4 ≤ (M).size
        · have g4 : (4 : Int) ≤ (M).size := by omega
          have j3 := i1.out (((M).size : Int) - 3) ((M).size - 3) (by omega) (by omega)
          have j1 := i1.out (((M).size : Int) - 1) ((M).size - 1) (by omega) (by omega)
          have j2 := i1.out (((M).size : Int) - 2) ((M).size - 2) (by omega) (by omega)
          have d1 := DG ((bn (M)).getD ((M).size - 1) 0)
          have d2 := DG ((bn (M)).getD ((M).size - 2) 0)
          have ht : (((M).size : Int) - 3).toNat = (M).size - 3 := by omega
          have l3 : (0 : Int) ≤ ((M).size : Int) - 3 := by omega
          have l4 : ((M).size : Int) - 3 ≤ (M).size := by omega
          rw [decide_eq_true h4, Bool.true_and] at D2
          have hx : (bn (M)).getD ((M).size - 3) 0 = 46 ↔ ((((bn (M)).getD ((M).size - 3) 0 : Nat)) : Int) = 46 := by omega
          have hxb : ((bn (M)).getD ((M).size - 3) 0 == 46) = (((((bn (M)).getD ((M).size - 3) 0 : Nat)) : Int) == 46) := by rw [Bool.eq_iff_iff, beq_iff_eq, beq_iff_eq]; exact hx
          rw [hxb] at D2
          clear hx hxb i1 DG h4
          generalize Lx.dg ((bn (M)).getD ((M).size - 1) 0) = b1 at *
          generalize Lx.dg ((bn (M)).getD ((M).size - 2) 0) = b2 at *
          generalize Lx.whole (bn ((M).extract 0 ((M).size - 3))) = b3 at *
          generalize ((((bn (M)).getD ((M).size - 3) 0 : Nat)) : Int) = x3 at *
          generalize ((((bn (M)).getD ((M).size - 1) 0 : Nat)) : Int) = x1 at *
          generalize ((((bn (M)).getD ((M).size - 2) 0 : Nat)) : Int) = x2 at *
          by_cases h46 : x3 = 46
          · subst h46
            have D2 := hide D2
            cases b1
            · have HF := hide (show Lx.decB (bn s) = false by rw [HE.out, D2.out]; simp)
              clear D2 HE
              go_wp2_with fail
              refine (d1 _).out.mono ?_
              rintro e w' ⟨rfl, rfl⟩
              go_wp2_with fail
              go_ret
              exact ⟨ret_b HF.out.symm, rfl⟩
            · cases b2
              · have HF := hide (show Lx.decB (bn s) = false by rw [HE.out, D2.out]; simp)
                clear D2 HE
                go_wp2_with fail
                refine (d1 _).out.mono ?_
                rintro e w' ⟨rfl, rfl⟩
                go_wp2_with fail
                refine (d2 _).out.mono ?_
                rintro e w' ⟨rfl, rfl⟩
                go_wp2_with fail
                go_ret
                exact ⟨ret_b HF.out.symm, rfl⟩
              · have HF := hide (show Lx.decB (bn s) = b3 by rw [HE.out, D2.out]; simp)
                clear D2 HE
                go_wp2_with fail
                refine (d1 _).out.mono ?_
                rintro e w' ⟨rfl, rfl⟩
                go_wp2_with fail
                refine (d2 _).out.mono ?_
                rintro e w' ⟨rfl, rfl⟩
                go_wp2_with fail
                refine (WH _).out.mono ?_
                rintro e w' ⟨rfl, rfl⟩
                go_wp2_with fail
                go_ret
                exact ⟨ret_b HF.out.symm, rfl⟩
          · have g46 : (x3 == 46) = false := by simpa using h46
            have HF := hide (show Lx.decB (bn s) = false by rw [HE.out, D2, g46]; simp)
            clear D2 HE h46
            go_wp2_with fail
            go_wp2_with fail
            go_ret
            exact ⟨ret_b HF.out.symm, rfl⟩
        · have g4 : ¬ (4 : Int) ≤ (M).size := by omega
          have HF := hide (show Lx.decB (bn s) = false by rw [HE.out, D2, decide_eq_false h4]; simp)
          clear D2 HE i1 DG WH h4
          go_wp2_with fail
          go_wp2_with fail
          go_ret
          exact ⟨ret_b HF.out.symm, rfl⟩
      · rw [show stripS s = s from if_neg (fun h => hx h.2)] at HE
        have gx : (((((s[0]'h0).toNat : Nat)) : Int) == 45) = false := by rw [beq_eq_false_iff_ne, hA]; omega
        clear hA hx
        go_enter Try.func31, Try.ntmps31
        go_upto_region 5 with fail
        clear gx hI h0' hz
        have DG := fun c w => hide (rdigit_any c w)
        have WH := fun w => hide (rdigits_any (s.extract 0 (s.size - 3)) w (by rw [ByteArray.size_extract]; omega))
        have D2 := dec2_eq (s)
        have i1 := hide (idxI (s))
        have hMI : ((s).size : Int) ≤ 100000 := by omega
        by_cases h4 : 4 ≤ (s).size
        · have g4 : (4 : Int) ≤ (s).size := by omega
          have j3 := i1.out (((s).size : Int) - 3) ((s).size - 3) (by omega) (by omega)
          have j1 := i1.out (((s).size : Int) - 1) ((s).size - 1) (by omega) (by omega)
          have j2 := i1.out (((s).size : Int) - 2) ((s).size - 2) (by omega) (by omega)
          have d1 := DG ((bn (s)).getD ((s).size - 1) 0)
          have d2 := DG ((bn (s)).getD ((s).size - 2) 0)
          have ht : (((s).size : Int) - 3).toNat = (s).size - 3 := by omega
          have l3 : (0 : Int) ≤ ((s).size : Int) - 3 := by omega
          have l4 : ((s).size : Int) - 3 ≤ (s).size := by omega
          rw [decide_eq_true h4, Bool.true_and] at D2
          have hx : (bn (s)).getD ((s).size - 3) 0 = 46 ↔ ((((bn (s)).getD ((s).size - 3) 0 : Nat)) : Int) = 46 := by omega
          have hxb : ((bn (s)).getD ((s).size - 3) 0 == 46) = (((((bn (s)).getD ((s).size - 3) 0 : Nat)) : Int) == 46) := by rw [Bool.eq_iff_iff, beq_iff_eq, beq_iff_eq]; exact hx
          rw [hxb] at D2
          clear hx hxb i1 DG h4
          generalize Lx.dg ((bn (s)).getD ((s).size - 1) 0) = b1 at *
          generalize Lx.dg ((bn (s)).getD ((s).size - 2) 0) = b2 at *
          generalize Lx.whole (bn ((s).extract 0 ((s).size - 3))) = b3 at *
          generalize ((((bn (s)).getD ((s).size - 3) 0 : Nat)) : Int) = x3 at *
          generalize ((((bn (s)).getD ((s).size - 1) 0 : Nat)) : Int) = x1 at *
          generalize ((((bn (s)).getD ((s).size - 2) 0 : Nat)) : Int) = x2 at *
          by_cases h46 : x3 = 46
          · subst h46
            have D2 := hide D2
            cases b1
            · have HF := hide (show Lx.decB (bn s) = false by rw [HE.out, D2.out]; simp)
              clear D2 HE
              go_wp2_with fail
              refine (d1 _).out.mono ?_
              rintro e w' ⟨rfl, rfl⟩
              go_wp2_with fail
              go_ret
              exact ⟨ret_b HF.out.symm, rfl⟩
            · cases b2
              · have HF := hide (show Lx.decB (bn s) = false by rw [HE.out, D2.out]; simp)
                clear D2 HE
                go_wp2_with fail
                refine (d1 _).out.mono ?_
                rintro e w' ⟨rfl, rfl⟩
                go_wp2_with fail
                refine (d2 _).out.mono ?_
                rintro e w' ⟨rfl, rfl⟩
                go_wp2_with fail
                go_ret
                exact ⟨ret_b HF.out.symm, rfl⟩
              · have HF := hide (show Lx.decB (bn s) = b3 by rw [HE.out, D2.out]; simp)
                clear D2 HE
                go_wp2_with fail
                refine (d1 _).out.mono ?_
                rintro e w' ⟨rfl, rfl⟩
                go_wp2_with fail
                refine (d2 _).out.mono ?_
                rintro e w' ⟨rfl, rfl⟩
                go_wp2_with fail
                refine (WH _).out.mono ?_
                rintro e w' ⟨rfl, rfl⟩
                go_wp2_with fail
                go_ret
                exact ⟨ret_b HF.out.symm, rfl⟩
          · have g46 : (x3 == 46) = false := by simpa using h46
            have HF := hide (show Lx.decB (bn s) = false by rw [HE.out, D2, g46]; simp)
            clear D2 HE h46
            go_wp2_with fail
            go_wp2_with fail
            go_ret
            exact ⟨ret_b HF.out.symm, rfl⟩
        · have g4 : ¬ (4 : Int) ≤ (s).size := by omega
          have HF := hide (show Lx.decB (bn s) = false by rw [HE.out, D2, decide_eq_false h4]; simp)
          clear D2 HE i1 DG WH h4
          go_wp2_with fail
          go_wp2_with fail
          go_ret
          exact ⟨ret_b HF.out.symm, rfl⟩
    · have h0' : ¬ (0 : Int) < s.size := by omega
      rw [show stripS s = s from if_neg (fun h => h0 h.1)] at HE
      have HF := hide (show Lx.decB (bn s) = false by rw [HE.out, dec2_eq, decide_eq_false (show ¬ 4 ≤ s.size by omega)]; simp)
      have g4 : ¬ (4 : Int) ≤ s.size := by omega
      clear HE h0
      go_enter Try.func31, Try.ntmps31
      go_wp2_with fail
      go_ret
      exact ⟨ret_b HF.out.symm, rfl⟩
  · rw [hz] at HE
    have HF := hide (show Lx.decB (bn s) = false from HE.out)
    clear HE
    go_enter Try.func31, Try.ntmps31
    go_wp2_with fail
    go_ret
    exact ⟨ret_b HF.out.symm, rfl⟩

end Go.Proofs.Ytnkjppclhhjdmaa
