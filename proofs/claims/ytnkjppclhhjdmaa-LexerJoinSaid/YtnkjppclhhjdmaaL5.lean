/-
  run and all, at each class of bytes.
-/
import Derived.Test.YtnkjppclhhjdmaaRows
import Derived.Test.YtnkjppclhhjdmaaL4
import Derived.WalkKit
import Derived.WalkSpells
import Derived.StillTactics
import Derived.Laws.Pointers
import Derived.Laws.Strings
import Derived.Laws.Strings2
import Derived.Laws.BytesArg
import Derived.LoopTactic
import Derived.Outline
import Derived.Below
import Derived.Laws.Externs
import Derived.Deep.QuietTactic
import Derived.Deep.RegionWith
import Derived.BigQuiet
import Derived.RegionTactic
import Derived.ChangeAlike
import Derived.OwnWalk
import Derived.Laws.OwnMore
import Derived.Laws.Rows
import Derived.Laws.EntriesVeiled
import Derived.Lib.MinMax
import Derived.Lib.Strings
namespace Go.Proofs.Ytnkjppclhhjdmaa
open Go.RowKit
set_option linter.unusedVariables false
set_option linter.unusedSimpArgs false
set_option linter.unnecessarySimpa false

set_option maxHeartbeats 4000000 in
set_option maxRecDepth 20000 in
theorem run_blank (s : ByteArray) (w : World) (hm : s.size ≤ 100000) : Calls Try.prog 34 #[.string s, .func (.func 35) #[] #[]] w fun e w' => e = .returned (.int .i64 (Lx.run (Lx.blk) (bn s) : Int)) ∧ w = w' := by
  have i1 := hide (idx s)
  have hI : (s.size : Int) ≤ 100000 := by omega
  have HB := fun c w => hide (isBlank_any c w)
  have RO := fun k => hide (Lx.run_of (p := Lx.blk) (l := bn s) (k := k))
  have LN := hide (bn_len s)
  go_enter Try.func34, Try.ntmps34
  go_wp2_with fail
  go_loopw [8] (fun i wr => ∃ k : Nat, k ≤ s.size ∧ i = .int .i64 k ∧ Hid (∀ j, j < k → (Lx.blk) ((bn s).getD j 0) = true) ∧ w = wr) (fun i _ => s.size - (intOf i).toNat)
  case atStart => exact ⟨0, Nat.zero_le _, rfl, hide (fun j h => absurd h (Nat.not_lt_zero j)), rfl⟩
  case round =>
    obtain ⟨k, hk, rfl, HJ, rfl⟩ := hrel
    by_cases hlt : k < s.size
    · have j1 := i1.out k hlt
      have hlt' : (k : Int) < s.size := by omega
      have hb := HB ((bn s).getD k 0)
      by_cases hp : (Lx.blk) ((bn s).getD k 0) = true
      · have HN := hide (show ∀ j, j < k + 1 → (Lx.blk) ((bn s).getD j 0) = true from fun j h => (Nat.lt_succ_iff_lt_or_eq.1 h).elim (fun h => HJ.out j h) (fun h => h ▸ hp))
        have hb' : ∀ w, Hid (Calls Try.prog 35 #[.int .u8 (((bn s).getD k 0 : Nat) : Int)] w fun e w' => e = .returned (.bool true) ∧ w = w') := fun w => hide ((hb w).out.mono fun _ _ q => ⟨q.1.trans (ret_b hp), q.2⟩)
        clear hb hp HB RO
        generalize (((bn s).getD k 0 : Nat) : Int) = x at *
        go_wp2_with fail
        refine (hb' _).out.mono ?_
        rintro e w' ⟨rfl, rfl⟩
        go_wp2_with fail
        go_roundw
        case rel => exact ⟨k + 1, hlt, by go_num, HN, by simp⟩
        case measure => simp [intOf]; omega
      · have hp' : (Lx.blk) ((bn s).getD k 0) = false := by simpa using hp
        have HE := hide (show (k : Int) = (Lx.run (Lx.blk) (bn s) : Int) from congrArg _ ((RO k).out (by rw [LN.out]; exact hk) HJ.out (fun _ => hp')).symm)
        have hb' : ∀ w, Hid (Calls Try.prog 35 #[.int .u8 (((bn s).getD k 0 : Nat) : Int)] w fun e w' => e = .returned (.bool false) ∧ w = w') := fun w => hide ((hb w).out.mono fun _ _ q => ⟨q.1.trans (ret_b hp'), q.2⟩)
        clear hb hp hp' HB RO
        generalize (((bn s).getD k 0 : Nat) : Int) = x at *
        go_wp2_with fail
        refine (hb' _).out.mono ?_
        rintro e w' ⟨rfl, rfl⟩
        go_wp2_with fail
        go_ret
        exact ⟨ret_i HE.out, rfl⟩
    · obtain rfl : k = s.size := by omega
      have HE := hide (show ((s.size : Nat) : Int) = (Lx.run (Lx.blk) (bn s) : Int) from congrArg _ ((RO s.size).out (by rw [LN.out]; exact Nat.le_refl _) HJ.out (fun h => absurd h (by rw [LN.out]; exact Nat.lt_irrefl _))).symm)
      clear HB RO
      go_wp2_with fail
      go_ret
      exact ⟨ret_i HE.out, rfl⟩

set_option maxHeartbeats 4000000 in
set_option maxRecDepth 20000 in
theorem run_word (s : ByteArray) (w : World) (hm : s.size ≤ 100000) : Calls Try.prog 34 #[.string s, .func (.func 36) #[] #[]] w fun e w' => e = .returned (.int .i64 (Lx.run (fun c => !Lx.blk c) (bn s) : Int)) ∧ w = w' := by
  have i1 := hide (idx s)
  have hI : (s.size : Int) ≤ 100000 := by omega
  have HB := fun c w => hide (notBlank_any c w)
  have RO := fun k => hide (Lx.run_of (p := fun c => !Lx.blk c) (l := bn s) (k := k))
  have LN := hide (bn_len s)
  go_enter Try.func34, Try.ntmps34
  go_wp2_with fail
  go_loopw [8] (fun i wr => ∃ k : Nat, k ≤ s.size ∧ i = .int .i64 k ∧ Hid (∀ j, j < k → (fun c => !Lx.blk c) ((bn s).getD j 0) = true) ∧ w = wr) (fun i _ => s.size - (intOf i).toNat)
  case atStart => exact ⟨0, Nat.zero_le _, rfl, hide (fun j h => absurd h (Nat.not_lt_zero j)), rfl⟩
  case round =>
    obtain ⟨k, hk, rfl, HJ, rfl⟩ := hrel
    by_cases hlt : k < s.size
    · have j1 := i1.out k hlt
      have hlt' : (k : Int) < s.size := by omega
      have hb := HB ((bn s).getD k 0)
      by_cases hp : (fun c => !Lx.blk c) ((bn s).getD k 0) = true
      · have HN := hide (show ∀ j, j < k + 1 → (fun c => !Lx.blk c) ((bn s).getD j 0) = true from fun j h => (Nat.lt_succ_iff_lt_or_eq.1 h).elim (fun h => HJ.out j h) (fun h => h ▸ hp))
        have hb' : ∀ w, Hid (Calls Try.prog 36 #[.int .u8 (((bn s).getD k 0 : Nat) : Int)] w fun e w' => e = .returned (.bool true) ∧ w = w') := fun w => hide ((hb w).out.mono fun _ _ q => ⟨q.1.trans (ret_b hp), q.2⟩)
        clear hb hp HB RO
        generalize (((bn s).getD k 0 : Nat) : Int) = x at *
        go_wp2_with fail
        refine (hb' _).out.mono ?_
        rintro e w' ⟨rfl, rfl⟩
        go_wp2_with fail
        go_roundw
        case rel => exact ⟨k + 1, hlt, by go_num, HN, by simp⟩
        case measure => simp [intOf]; omega
      · have hp' : (fun c => !Lx.blk c) ((bn s).getD k 0) = false := by simpa using hp
        have HE := hide (show (k : Int) = (Lx.run (fun c => !Lx.blk c) (bn s) : Int) from congrArg _ ((RO k).out (by rw [LN.out]; exact hk) HJ.out (fun _ => hp')).symm)
        have hb' : ∀ w, Hid (Calls Try.prog 36 #[.int .u8 (((bn s).getD k 0 : Nat) : Int)] w fun e w' => e = .returned (.bool false) ∧ w = w') := fun w => hide ((hb w).out.mono fun _ _ q => ⟨q.1.trans (ret_b hp'), q.2⟩)
        clear hb hp hp' HB RO
        generalize (((bn s).getD k 0 : Nat) : Int) = x at *
        go_wp2_with fail
        refine (hb' _).out.mono ?_
        rintro e w' ⟨rfl, rfl⟩
        go_wp2_with fail
        go_ret
        exact ⟨ret_i HE.out, rfl⟩
    · obtain rfl : k = s.size := by omega
      have HE := hide (show ((s.size : Nat) : Int) = (Lx.run (fun c => !Lx.blk c) (bn s) : Int) from congrArg _ ((RO s.size).out (by rw [LN.out]; exact Nat.le_refl _) HJ.out (fun h => absurd h (by rw [LN.out]; exact Nat.lt_irrefl _))).symm)
      clear HB RO
      go_wp2_with fail
      go_ret
      exact ⟨ret_i HE.out, rfl⟩

set_option maxHeartbeats 4000000 in
set_option maxRecDepth 20000 in
theorem run_digit (s : ByteArray) (w : World) (hm : s.size ≤ 100000) : Calls Try.prog 34 #[.string s, .func (.func 41) #[] #[]] w fun e w' => e = .returned (.int .i64 (Lx.run (Lx.dg) (bn s) : Int)) ∧ w = w' := by
  have i1 := hide (idx s)
  have hI : (s.size : Int) ≤ 100000 := by omega
  have HB := fun c w => hide (isDigit_any c w)
  have RO := fun k => hide (Lx.run_of (p := Lx.dg) (l := bn s) (k := k))
  have LN := hide (bn_len s)
  go_enter Try.func34, Try.ntmps34
  go_wp2_with fail
  go_loopw [8] (fun i wr => ∃ k : Nat, k ≤ s.size ∧ i = .int .i64 k ∧ Hid (∀ j, j < k → (Lx.dg) ((bn s).getD j 0) = true) ∧ w = wr) (fun i _ => s.size - (intOf i).toNat)
  case atStart => exact ⟨0, Nat.zero_le _, rfl, hide (fun j h => absurd h (Nat.not_lt_zero j)), rfl⟩
  case round =>
    obtain ⟨k, hk, rfl, HJ, rfl⟩ := hrel
    by_cases hlt : k < s.size
    · have j1 := i1.out k hlt
      have hlt' : (k : Int) < s.size := by omega
      have hb := HB ((bn s).getD k 0)
      by_cases hp : (Lx.dg) ((bn s).getD k 0) = true
      · have HN := hide (show ∀ j, j < k + 1 → (Lx.dg) ((bn s).getD j 0) = true from fun j h => (Nat.lt_succ_iff_lt_or_eq.1 h).elim (fun h => HJ.out j h) (fun h => h ▸ hp))
        have hb' : ∀ w, Hid (Calls Try.prog 41 #[.int .u8 (((bn s).getD k 0 : Nat) : Int)] w fun e w' => e = .returned (.bool true) ∧ w = w') := fun w => hide ((hb w).out.mono fun _ _ q => ⟨q.1.trans (ret_b hp), q.2⟩)
        clear hb hp HB RO
        generalize (((bn s).getD k 0 : Nat) : Int) = x at *
        go_wp2_with fail
        refine (hb' _).out.mono ?_
        rintro e w' ⟨rfl, rfl⟩
        go_wp2_with fail
        go_roundw
        case rel => exact ⟨k + 1, hlt, by go_num, HN, by simp⟩
        case measure => simp [intOf]; omega
      · have hp' : (Lx.dg) ((bn s).getD k 0) = false := by simpa using hp
        have HE := hide (show (k : Int) = (Lx.run (Lx.dg) (bn s) : Int) from congrArg _ ((RO k).out (by rw [LN.out]; exact hk) HJ.out (fun _ => hp')).symm)
        have hb' : ∀ w, Hid (Calls Try.prog 41 #[.int .u8 (((bn s).getD k 0 : Nat) : Int)] w fun e w' => e = .returned (.bool false) ∧ w = w') := fun w => hide ((hb w).out.mono fun _ _ q => ⟨q.1.trans (ret_b hp'), q.2⟩)
        clear hb hp hp' HB RO
        generalize (((bn s).getD k 0 : Nat) : Int) = x at *
        go_wp2_with fail
        refine (hb' _).out.mono ?_
        rintro e w' ⟨rfl, rfl⟩
        go_wp2_with fail
        go_ret
        exact ⟨ret_i HE.out, rfl⟩
    · obtain rfl : k = s.size := by omega
      have HE := hide (show ((s.size : Nat) : Int) = (Lx.run (Lx.dg) (bn s) : Int) from congrArg _ ((RO s.size).out (by rw [LN.out]; exact Nat.le_refl _) HJ.out (fun h => absurd h (by rw [LN.out]; exact Nat.lt_irrefl _))).symm)
      clear HB RO
      go_wp2_with fail
      go_ret
      exact ⟨ret_i HE.out, rfl⟩

theorem all_digit (s : ByteArray) (w : World) (hm : s.size ≤ 100000) : Calls Try.prog 25 #[.string s, .func (.func 41) #[] #[]] w fun e w' => e = .returned (.bool ((bn s).all (Lx.dg))) ∧ w = w' := by
  have HR := fun w => hide (run_digit s w hm)
  have HE := hide (show ((Lx.run (Lx.dg) (bn s) : Int) == (s.size : Int)) = (bn s).all (Lx.dg) by
    rw [Bool.eq_iff_iff, ← Lx.run_all, bn_len]; simp; omega)
  generalize (Lx.run (Lx.dg) (bn s) : Int) = x at *
  go_enter Try.func25, Try.ntmps25
  go_wp2_with fail
  refine (HR _).out.mono ?_
  rintro e w' ⟨rfl, rfl⟩
  go_wp2_with fail
  go_ret
  exact ⟨ret_b HE.out, rfl⟩

set_option maxHeartbeats 4000000 in
set_option maxRecDepth 20000 in
theorem run_name (s : ByteArray) (w : World) (hm : s.size ≤ 100000) : Calls Try.prog 34 #[.string s, .func (.func 26) #[] #[]] w fun e w' => e = .returned (.int .i64 (Lx.run (Lx.nm) (bn s) : Int)) ∧ w = w' := by
  have i1 := hide (idx s)
  have hI : (s.size : Int) ≤ 100000 := by omega
  have HB := fun c w => hide (name_any c w)
  have RO := fun k => hide (Lx.run_of (p := Lx.nm) (l := bn s) (k := k))
  have LN := hide (bn_len s)
  go_enter Try.func34, Try.ntmps34
  go_wp2_with fail
  go_loopw [8] (fun i wr => ∃ k : Nat, k ≤ s.size ∧ i = .int .i64 k ∧ Hid (∀ j, j < k → (Lx.nm) ((bn s).getD j 0) = true) ∧ w = wr) (fun i _ => s.size - (intOf i).toNat)
  case atStart => exact ⟨0, Nat.zero_le _, rfl, hide (fun j h => absurd h (Nat.not_lt_zero j)), rfl⟩
  case round =>
    obtain ⟨k, hk, rfl, HJ, rfl⟩ := hrel
    by_cases hlt : k < s.size
    · have j1 := i1.out k hlt
      have hlt' : (k : Int) < s.size := by omega
      have hb := HB ((bn s).getD k 0)
      by_cases hp : (Lx.nm) ((bn s).getD k 0) = true
      · have HN := hide (show ∀ j, j < k + 1 → (Lx.nm) ((bn s).getD j 0) = true from fun j h => (Nat.lt_succ_iff_lt_or_eq.1 h).elim (fun h => HJ.out j h) (fun h => h ▸ hp))
        have hb' : ∀ w, Hid (Calls Try.prog 26 #[.int .u8 (((bn s).getD k 0 : Nat) : Int)] w fun e w' => e = .returned (.bool true) ∧ w = w') := fun w => hide ((hb w).out.mono fun _ _ q => ⟨q.1.trans (ret_b hp), q.2⟩)
        clear hb hp HB RO
        generalize (((bn s).getD k 0 : Nat) : Int) = x at *
        go_wp2_with fail
        refine (hb' _).out.mono ?_
        rintro e w' ⟨rfl, rfl⟩
        go_wp2_with fail
        go_roundw
        case rel => exact ⟨k + 1, hlt, by go_num, HN, by simp⟩
        case measure => simp [intOf]; omega
      · have hp' : (Lx.nm) ((bn s).getD k 0) = false := by simpa using hp
        have HE := hide (show (k : Int) = (Lx.run (Lx.nm) (bn s) : Int) from congrArg _ ((RO k).out (by rw [LN.out]; exact hk) HJ.out (fun _ => hp')).symm)
        have hb' : ∀ w, Hid (Calls Try.prog 26 #[.int .u8 (((bn s).getD k 0 : Nat) : Int)] w fun e w' => e = .returned (.bool false) ∧ w = w') := fun w => hide ((hb w).out.mono fun _ _ q => ⟨q.1.trans (ret_b hp'), q.2⟩)
        clear hb hp hp' HB RO
        generalize (((bn s).getD k 0 : Nat) : Int) = x at *
        go_wp2_with fail
        refine (hb' _).out.mono ?_
        rintro e w' ⟨rfl, rfl⟩
        go_wp2_with fail
        go_ret
        exact ⟨ret_i HE.out, rfl⟩
    · obtain rfl : k = s.size := by omega
      have HE := hide (show ((s.size : Nat) : Int) = (Lx.run (Lx.nm) (bn s) : Int) from congrArg _ ((RO s.size).out (by rw [LN.out]; exact Nat.le_refl _) HJ.out (fun h => absurd h (by rw [LN.out]; exact Nat.lt_irrefl _))).symm)
      clear HB RO
      go_wp2_with fail
      go_ret
      exact ⟨ret_i HE.out, rfl⟩

theorem all_name (s : ByteArray) (w : World) (hm : s.size ≤ 100000) : Calls Try.prog 25 #[.string s, .func (.func 26) #[] #[]] w fun e w' => e = .returned (.bool ((bn s).all (Lx.nm))) ∧ w = w' := by
  have HR := fun w => hide (run_name s w hm)
  have HE := hide (show ((Lx.run (Lx.nm) (bn s) : Int) == (s.size : Int)) = (bn s).all (Lx.nm) by
    rw [Bool.eq_iff_iff, ← Lx.run_all, bn_len]; simp; omega)
  generalize (Lx.run (Lx.nm) (bn s) : Int) = x at *
  go_enter Try.func25, Try.ntmps25
  go_wp2_with fail
  refine (HR _).out.mono ?_
  rintro e w' ⟨rfl, rfl⟩
  go_wp2_with fail
  go_ret
  exact ⟨ret_b HE.out, rfl⟩

set_option maxHeartbeats 4000000 in
set_option maxRecDepth 20000 in
theorem run_lower (s : ByteArray) (w : World) (hm : s.size ≤ 100000) : Calls Try.prog 34 #[.string s, .func (.func 28) #[] #[]] w fun e w' => e = .returned (.int .i64 (Lx.run (Lx.lw) (bn s) : Int)) ∧ w = w' := by
  have i1 := hide (idx s)
  have hI : (s.size : Int) ≤ 100000 := by omega
  have HB := fun c w => hide (lower_any c w)
  have RO := fun k => hide (Lx.run_of (p := Lx.lw) (l := bn s) (k := k))
  have LN := hide (bn_len s)
  go_enter Try.func34, Try.ntmps34
  go_wp2_with fail
  go_loopw [8] (fun i wr => ∃ k : Nat, k ≤ s.size ∧ i = .int .i64 k ∧ Hid (∀ j, j < k → (Lx.lw) ((bn s).getD j 0) = true) ∧ w = wr) (fun i _ => s.size - (intOf i).toNat)
  case atStart => exact ⟨0, Nat.zero_le _, rfl, hide (fun j h => absurd h (Nat.not_lt_zero j)), rfl⟩
  case round =>
    obtain ⟨k, hk, rfl, HJ, rfl⟩ := hrel
    by_cases hlt : k < s.size
    · have j1 := i1.out k hlt
      have hlt' : (k : Int) < s.size := by omega
      have hb := HB ((bn s).getD k 0)
      by_cases hp : (Lx.lw) ((bn s).getD k 0) = true
      · have HN := hide (show ∀ j, j < k + 1 → (Lx.lw) ((bn s).getD j 0) = true from fun j h => (Nat.lt_succ_iff_lt_or_eq.1 h).elim (fun h => HJ.out j h) (fun h => h ▸ hp))
        have hb' : ∀ w, Hid (Calls Try.prog 28 #[.int .u8 (((bn s).getD k 0 : Nat) : Int)] w fun e w' => e = .returned (.bool true) ∧ w = w') := fun w => hide ((hb w).out.mono fun _ _ q => ⟨q.1.trans (ret_b hp), q.2⟩)
        clear hb hp HB RO
        generalize (((bn s).getD k 0 : Nat) : Int) = x at *
        go_wp2_with fail
        refine (hb' _).out.mono ?_
        rintro e w' ⟨rfl, rfl⟩
        go_wp2_with fail
        go_roundw
        case rel => exact ⟨k + 1, hlt, by go_num, HN, by simp⟩
        case measure => simp [intOf]; omega
      · have hp' : (Lx.lw) ((bn s).getD k 0) = false := by simpa using hp
        have HE := hide (show (k : Int) = (Lx.run (Lx.lw) (bn s) : Int) from congrArg _ ((RO k).out (by rw [LN.out]; exact hk) HJ.out (fun _ => hp')).symm)
        have hb' : ∀ w, Hid (Calls Try.prog 28 #[.int .u8 (((bn s).getD k 0 : Nat) : Int)] w fun e w' => e = .returned (.bool false) ∧ w = w') := fun w => hide ((hb w).out.mono fun _ _ q => ⟨q.1.trans (ret_b hp'), q.2⟩)
        clear hb hp hp' HB RO
        generalize (((bn s).getD k 0 : Nat) : Int) = x at *
        go_wp2_with fail
        refine (hb' _).out.mono ?_
        rintro e w' ⟨rfl, rfl⟩
        go_wp2_with fail
        go_ret
        exact ⟨ret_i HE.out, rfl⟩
    · obtain rfl : k = s.size := by omega
      have HE := hide (show ((s.size : Nat) : Int) = (Lx.run (Lx.lw) (bn s) : Int) from congrArg _ ((RO s.size).out (by rw [LN.out]; exact Nat.le_refl _) HJ.out (fun h => absurd h (by rw [LN.out]; exact Nat.lt_irrefl _))).symm)
      clear HB RO
      go_wp2_with fail
      go_ret
      exact ⟨ret_i HE.out, rfl⟩

theorem all_lower (s : ByteArray) (w : World) (hm : s.size ≤ 100000) : Calls Try.prog 25 #[.string s, .func (.func 28) #[] #[]] w fun e w' => e = .returned (.bool ((bn s).all (Lx.lw))) ∧ w = w' := by
  have HR := fun w => hide (run_lower s w hm)
  have HE := hide (show ((Lx.run (Lx.lw) (bn s) : Int) == (s.size : Int)) = (bn s).all (Lx.lw) by
    rw [Bool.eq_iff_iff, ← Lx.run_all, bn_len]; simp; omega)
  generalize (Lx.run (Lx.lw) (bn s) : Int) = x at *
  go_enter Try.func25, Try.ntmps25
  go_wp2_with fail
  refine (HR _).out.mono ?_
  rintro e w' ⟨rfl, rfl⟩
  go_wp2_with fail
  go_ret
  exact ⟨ret_b HE.out, rfl⟩

end Go.Proofs.Ytnkjppclhhjdmaa
