/-
  isDecimal.
-/
import Derived.Test.YtnkjppclhhjdmaaRows
import Derived.Test.YtnkjppclhhjdmaaL9
import Derived.WalkKit
import Derived.WalkSpells
import Derived.StillTactics
import Derived.Laws.Pointers
import Derived.Laws.Strings
import Derived.Laws.Strings2
import Derived.Laws.BytesArg
import Derived.LoopTactic
import Derived.Outline
import Derived.Below
import Derived.Laws.Externs
import Derived.Deep.QuietTactic
import Derived.Deep.RegionWith
import Derived.BigQuiet
import Derived.RegionTactic
import Derived.ChangeAlike
import Derived.OwnWalk
import Derived.Laws.OwnMore
import Derived.Laws.Rows
import Derived.Laws.EntriesVeiled
import Derived.Lib.MinMax
import Derived.Lib.Strings
namespace Go.Proofs.Ytnkjppclhhjdmaa
open Go.RowKit
set_option linter.unusedVariables false
set_option linter.unusedSimpArgs false
set_option linter.unnecessarySimpa false

set_option maxHeartbeats 4000000 in
theorem cut_any (s : ByteArray) (w : World) (hm : s.size ≤ 100000) : Calls Try.prog 42 #[.string s, .string ⟨#[46]⟩] w fun e w' => e = .returned (cutV s) ∧ Below w.heap.size w w' := by
  have C2 := fun w => hide (cut2_any s w hm)
  by_cases h : dotN s < s.size
  · have hc : cutV s = .tuple #[.string (s.extract 0 (dotN s)), .string (s.extract (dotN s + 1) s.size), .bool true] := if_pos h
    rw [hc] at C2 ⊢
    clear hc
    generalize s.extract 0 (dotN s) = a at *
    generalize s.extract (dotN s + 1) s.size = b at *
    go_enter Try.func42, Try.ntmps42
    go_wp2_with fail
    refine (C2 _).out.mono ?_
    rintro e w' ⟨rfl, hb⟩
    go_wp2_with fail
    exact bodyPost_ret (v := .tuple #[.string a, .string b, .bool true]) (by simp [results, Try.results42, go_sem]) rfl ⟨rfl, hb⟩
  · have hc : cutV s = .tuple #[.string s, .string ⟨#[]⟩, .bool false] := if_neg h
    rw [hc] at C2 ⊢
    clear hc
    go_enter Try.func42, Try.ntmps42
    go_wp2_with fail
    refine (C2 _).out.mono ?_
    rintro e w' ⟨rfl, hb⟩
    go_wp2_with fail
    exact bodyPost_ret (v := .tuple #[.string s, .string ⟨#[]⟩, .bool false]) (by simp [results, Try.results42, go_sem]) rfl ⟨rfl, hb⟩
theorem toList_is (s : ByteArray) (l : List UInt8) : (s.toList == l) = (bn s == l.map UInt8.toNat) := by
  rw [Bool.eq_iff_iff, beq_iff_eq, beq_iff_eq, Lib.toList_data]
  unfold bn
  exact (List.map_inj_right (fun x y hxy => UInt8.toNat_inj.1 hxy)).symm
set_option maxHeartbeats 4000000 in
set_option maxRecDepth 20000 in
theorem isDecimal_any (s : ByteArray) (w : World) (hm : s.size ≤ 100000) : Calls Try.prog 23 #[.string s] w fun e w' => e = .returned (.bool (Lx.decB (bn s))) ∧ Below w.heap.size w w' := by
  have TR := fun w => hide (trim_any s w hm)
  have hms : (stripS s).size ≤ 100000 := Nat.le_trans (stripS_le s) hm
  have CT := fun w => hide (cut_any (stripS s) w hms)
  have HE := hide (show Lx.decB (bn s) = (!(s.toList == [45, 48, 46, 48, 48]) && Lx.dec2 (bn (stripS s))) by rw [bn_stripS, toList_is]; rfl)
  generalize stripS s = m at *
  by_cases h : dotN m < m.size
  · have hc : cutV m = .tuple #[.string (m.extract 0 (dotN m)), .string (m.extract (dotN m + 1) m.size), .bool true] := if_pos h
    rw [hc] at CT
    have ha : (m.extract 0 (dotN m)).size ≤ 100000 := by rw [ByteArray.size_extract]; omega
    have hcs : (m.extract (dotN m + 1) m.size).size ≤ 100000 := by rw [ByteArray.size_extract]; omega
    have H2 : Lx.dec2 (bn m) = (Lx.whole (bn (m.extract 0 (dotN m))) && ((m.extract (dotN m + 1) m.size).size == 2) && (bn (m.extract (dotN m + 1) m.size)).all Lx.dg) := by
      rw [dec2_cut rfl (by rw [bn_len]; exact h), ← bn_len (m.extract (dotN m + 1) m.size), bn_ext, bn_ext, List.drop_zero, Nat.sub_zero]
      have : ((bn m).drop (dotN m + 1)).take (m.size - (dotN m + 1)) = (bn m).drop (dotN m + 1) := List.take_of_length_le (by rw [List.length_drop, bn_len]; exact Nat.le_refl _)
      rw [this]
      rfl
    rw [H2] at HE
    have WH := fun w => hide (isWhole_any (m.extract 0 (dotN m)) w ha)
    have AD := fun w => hide (all_digit (m.extract (dotN m + 1) m.size) w hcs)
    clear hc ha H2 hms
    generalize m.extract 0 (dotN m) = a at *
    generalize m.extract (dotN m + 1) m.size = c at *
    generalize Lx.whole (bn a) = W at *
    generalize (bn c).all Lx.dg = D at *
    have hI : (c.size : Int) ≤ 100000 := by omega
    clear h
    cases W
    · have HF := hide (show Lx.decB (bn s) = false by rw [HE.out, Bool.false_and, Bool.false_and, Bool.and_false])
      clear HE
      go_enter Try.func23, Try.ntmps23
      go_wp2_with fail
      refine (TR _).out.mono ?_
      rintro e w1 ⟨rfl, rfl⟩
      go_wp2_with fail
      refine (CT _).out.mono ?_
      rintro e w2 ⟨rfl, hb⟩
      have HB := hide hb
      clear hb
      go_wp2_with fail
      refine (WH _).out.mono ?_
      rintro e w' ⟨rfl, rfl⟩
      go_wp2_with fail
      go_ret
      exact ⟨ret_b HF.out.symm, HB.out⟩
    · by_cases h2 : c.size = 2
      · have h2' : (c.size : Int) = 2 := by omega
        have h3 : (c.size == 2) = true := by simpa using h2
        rw [h3] at HE
        clear h2 h3
        cases D
        · have HF := hide (show Lx.decB (bn s) = false by rw [HE.out, Bool.and_false, Bool.and_false])
          clear HE
          go_enter Try.func23, Try.ntmps23
          go_wp2_with fail
          refine (TR _).out.mono ?_
          rintro e w1 ⟨rfl, rfl⟩
          go_wp2_with fail
          refine (CT _).out.mono ?_
          rintro e w2 ⟨rfl, hb⟩
          have HB := hide hb
          clear hb
          go_wp2_with fail
          refine (WH _).out.mono ?_
          rintro e w' ⟨rfl, rfl⟩
          go_wp2_with fail
          refine (AD _).out.mono ?_
          rintro e w' ⟨rfl, rfl⟩
          go_wp2_with fail
          go_ret
          exact ⟨ret_b HF.out.symm, HB.out⟩
        · have HF := hide (show Lx.decB (bn s) = !(s.toList == [45, 48, 46, 48, 48]) by rw [HE.out]; cases (s.toList == [45, 48, 46, 48, 48]) <;> rfl)
          clear HE
          generalize Lx.decB (bn s) = R at *
          cases hz : (s.toList == [45, 48, 46, 48, 48])
          · have HF' := hide (show R = true by rw [HF.out, hz]; rfl)
            clear HF
            go_enter Try.func23, Try.ntmps23
            go_wp2_with fail
            refine (TR _).out.mono ?_
            rintro e w1 ⟨rfl, rfl⟩
            go_wp2_with fail
            refine (CT _).out.mono ?_
            rintro e w2 ⟨rfl, hb⟩
            have HB := hide hb
            clear hb
            go_wp2_with fail
            refine (WH _).out.mono ?_
            rintro e w' ⟨rfl, rfl⟩
            go_wp2_with fail
            refine (AD _).out.mono ?_
            rintro e w' ⟨rfl, rfl⟩
            go_wp2_with fail
            go_ret
            exact ⟨ret_b HF'.out.symm, HB.out⟩
          · have HF' := hide (show R = false by rw [HF.out, hz]; rfl)
            clear HF
            go_enter Try.func23, Try.ntmps23
            go_wp2_with fail
            refine (TR _).out.mono ?_
            rintro e w1 ⟨rfl, rfl⟩
            go_wp2_with fail
            refine (CT _).out.mono ?_
            rintro e w2 ⟨rfl, hb⟩
            have HB := hide hb
            clear hb
            go_wp2_with fail
            refine (WH _).out.mono ?_
            rintro e w' ⟨rfl, rfl⟩
            go_wp2_with fail
            refine (AD _).out.mono ?_
            rintro e w' ⟨rfl, rfl⟩
            go_wp2_with fail
            go_ret
            exact ⟨ret_b HF'.out.symm, HB.out⟩
      · have h2' : ¬ (c.size : Int) = 2 := by omega
        have h3 : (c.size == 2) = false := by simpa using h2
        rw [h3] at HE
        have HF := hide (show Lx.decB (bn s) = false by rw [HE.out, Bool.and_false, Bool.false_and, Bool.and_false])
        clear HE h2 h3
        go_enter Try.func23, Try.ntmps23
        go_wp2_with fail
        refine (TR _).out.mono ?_
        rintro e w1 ⟨rfl, rfl⟩
        go_wp2_with fail
        refine (CT _).out.mono ?_
        rintro e w2 ⟨rfl, hb⟩
        have HB := hide hb
        clear hb
        go_wp2_with fail
        refine (WH _).out.mono ?_
        rintro e w' ⟨rfl, rfl⟩
        go_wp2_with fail
        go_ret
        exact ⟨ret_b HF.out.symm, HB.out⟩
  · have hc : cutV m = .tuple #[.string m, .string ⟨#[]⟩, .bool false] := if_neg h
    rw [hc] at CT
    have HF := hide (show Lx.decB (bn s) = false by rw [HE.out, dec2_none (by rw [bn_len]; exact h), Bool.and_false])
    clear hc h HE
    go_enter Try.func23, Try.ntmps23
    go_wp2_with fail
    refine (TR _).out.mono ?_
    rintro e w1 ⟨rfl, rfl⟩
    go_wp2_with fail
    refine (CT _).out.mono ?_
    rintro e w2 ⟨rfl, hb⟩
    have HB := hide hb
    clear hb
    go_wp2_with fail
    go_ret
    exact ⟨ret_b HF.out.symm, HB.out⟩

end Go.Proofs.Ytnkjppclhhjdmaa
