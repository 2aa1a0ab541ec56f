/-
  strings.TrimPrefix and strings.Cut at one byte.
-/
import Derived.Test.YtnkjppclhhjdmaaRows
import Derived.Test.YtnkjppclhhjdmaaL8
import Derived.WalkKit
import Derived.WalkSpells
import Derived.StillTactics
import Derived.Laws.Pointers
import Derived.Laws.Strings
import Derived.Laws.Strings2
import Derived.Laws.BytesArg
import Derived.LoopTactic
import Derived.Outline
import Derived.Below
import Derived.Laws.Externs
import Derived.Deep.QuietTactic
import Derived.Deep.RegionWith
import Derived.BigQuiet
import Derived.RegionTactic
import Derived.ChangeAlike
import Derived.OwnWalk
import Derived.Laws.OwnMore
import Derived.Laws.Rows
import Derived.Laws.EntriesVeiled
import Derived.Lib.MinMax
import Derived.Lib.Strings
namespace Go.Proofs.Ytnkjppclhhjdmaa
open Go.RowKit
set_option linter.unusedVariables false
set_option linter.unusedSimpArgs false
set_option linter.unnecessarySimpa false

theorem quiet_of {P : Program} {f : FuncId} {args : Array Value} {w : World} {v : Value} (h : Calls P f args w fun e w' => e = .returned v ∧ w' = w) : Calls P f args w fun e w' => e = .returned v ∧ w = w' := h.mono fun _ _ q => ⟨q.1, q.2.symm⟩
set_option maxHeartbeats 4000000 in
set_option maxRecDepth 20000 in
theorem has_any (s : ByteArray) (w : World) (hm : s.size ≤ 100000) : Calls Try.prog 53 #[.string s, .string ⟨#[45]⟩] w fun e w' => e = .returned (.bool (decide (0 < s.size ∧ (bn s).getD 0 0 = 45))) ∧ w = w' := by
  have hI : (s.size : Int) ≤ 100000 := by omega
  by_cases h0 : 0 < s.size
  · have h0' : (1 : Int) ≤ s.size := by omega
    have HE := hide (show ((s.extract 0 1).toList == [45]) = decide (0 < s.size ∧ (bn s).getD 0 0 = 45) by
      rw [Bool.eq_iff_iff, beq_iff_eq, decide_eq_true_iff, Lib.toList_data]
      have e1 : bn (s.extract 0 1) = [(bn s).getD 0 0] := by
        rw [bn_ext]
        have : (bn s).length ≠ 0 := by rw [bn_len]; omega
        match hh : bn s, this with
        | x :: l, _ => simp
      have e2 : bn (s.extract 0 1) = (s.extract 0 1).data.toList.map UInt8.toNat := rfl
      constructor
      · intro e
        rw [e] at e2
        rw [e1] at e2
        exact ⟨h0, by simpa using e2⟩
      · rintro ⟨_, e⟩
        rw [e] at e1
        rw [e1] at e2
        have : (s.extract 0 1).data.toList.map UInt8.toNat = [(45 : UInt8)].map UInt8.toNat := e2.symm
        exact (List.map_inj_right (fun x y hxy => UInt8.toNat_inj.1 hxy)).1 this)
    generalize decide (0 < s.size ∧ (bn s).getD 0 0 = 45) = d at *
    go_enter Try.func53, Try.ntmps53
    go_wp2_with fail
    go_ret
    exact ⟨ret_b HE.out, rfl⟩
  · have h0' : ¬ (1 : Int) ≤ s.size := by omega
    have HE := hide (show false = decide (0 < s.size ∧ (bn s).getD 0 0 = 45) from (decide_eq_false (fun h => h0 h.1)).symm)
    clear h0
    generalize decide (0 < s.size ∧ (bn s).getD 0 0 = 45) = d at *
    go_enter Try.func53, Try.ntmps53
    go_wp2_with fail
    go_ret
    exact ⟨ret_b HE.out, rfl⟩
set_option maxHeartbeats 4000000 in
theorem trim2_any (s : ByteArray) (w : World) (hm : s.size ≤ 100000) : Calls Try.prog 49 #[.string s, .string ⟨#[45]⟩] w fun e w' => e = .returned (.string (stripS s)) ∧ w = w' := by
  have HP := fun w => hide (has_any s w hm)
  have hI : (s.size : Int) ≤ 100000 := by omega
  unfold stripS
  by_cases h : 0 < s.size ∧ (bn s).getD 0 0 = 45
  · rw [decide_eq_true h] at HP
    rw [if_pos h]
    have h1 : (1 : Int) ≤ s.size := by omega
    clear h
    go_enter Try.func49, Try.ntmps49
    go_wp2_with fail
    refine (HP _).out.mono ?_
    rintro e w' ⟨rfl, rfl⟩
    go_wp2_with fail
    go_ret
    exact ⟨rfl, rfl⟩
  · rw [decide_eq_false h] at HP
    rw [if_neg h]
    clear h
    go_enter Try.func49, Try.ntmps49
    go_wp2_with fail
    refine (HP _).out.mono ?_
    rintro e w' ⟨rfl, rfl⟩
    go_wp2_with fail
    go_ret
    exact ⟨rfl, rfl⟩
theorem trim_any (s : ByteArray) (w : World) (hm : s.size ≤ 100000) : Calls Try.prog 43 #[.string s, .string ⟨#[45]⟩] w fun e w' => e = .returned (.string (stripS s)) ∧ w = w' := by
  have HP := fun w => hide (trim2_any s w hm)
  go_enter Try.func43, Try.ntmps43
  go_wp2_with fail
  refine (HP _).out.mono ?_
  rintro e w' ⟨rfl, rfl⟩
  go_wp2_with fail
  go_ret
  exact ⟨rfl, rfl⟩
def dotN (s : ByteArray) : Nat := Lx.run (fun x => x != 46) (bn s)
def cutV (s : ByteArray) : Value := if dotN s < s.size then .tuple #[.string (s.extract 0 (dotN s)), .string (s.extract (dotN s + 1) s.size), .bool true] else .tuple #[.string s, .string ⟨#[]⟩, .bool false]
set_option maxHeartbeats 4000000 in
set_option maxRecDepth 20000 in
theorem cut2_any (s : ByteArray) (w : World) (hm : s.size ≤ 100000) : Calls Try.prog 48 #[.string s, .string ⟨#[46]⟩] w fun e w' => e = .returned (cutV s) ∧ Below w.heap.size w w' := by
  have IX := fun w => hide (quiet_of (Try.stringslite_Index_one s 46 w))
  have e0 : Lib.indexByte s.data.toList 46 = if dotN s < s.size then (dotN s : Int) else -1 := by
    rw [idx_run]
    have : s.data.toList.length = s.size := by rw [Array.length_toList]; rfl
    rw [this]; rfl
  rw [e0] at IX
  unfold cutV
  have hI : (s.size : Int) ≤ 100000 := by omega
  clear e0
  by_cases h : dotN s < s.size
  · rw [if_pos h] at IX ⊢
    have h1 : (dotN s : Int) < s.size := by omega
    have h2 : (dotN s : Int) ≤ s.size := by omega
    have h3 : (dotN s : Int) + 1 ≤ s.size := by omega
    have ht : ((dotN s : Int) + 1).toNat = dotN s + 1 := by omega
    generalize dotN s = d at *
    go_enter Try.func48, Try.ntmps48
    go_wp2_with fail
    refine (IX _).out.mono ?_
    rintro e w' ⟨rfl, rfl⟩
    go_wp2_with fail
    go_quiet (fail)
    go_wp2_with fail
    exact bodyPost_ret (v := .tuple #[.string (s.extract 0 d), .string (s.extract (d + 1) s.size), .bool true]) (by simp [results, Try.results48, go_sem, ht]) rfl ⟨rfl, below_drewN (Below.refl _ _) _⟩
  · rw [if_neg h] at IX ⊢
    clear h
    go_enter Try.func48, Try.ntmps48
    go_wp2_with fail
    refine (IX _).out.mono ?_
    rintro e w' ⟨rfl, rfl⟩
    go_wp2_with fail
    exact bodyPost_ret (v := .tuple #[.string s, .string ⟨#[]⟩, .bool false]) (by simp [results, Try.results48, go_sem]) rfl ⟨rfl, Below.refl _ _⟩

end Go.Proofs.Ytnkjppclhhjdmaa
