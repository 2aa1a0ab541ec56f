/-
  Contracts of the classes of bytes; bytes of a text.
-/
import Derived.Test.YtnkjppclhhjdmaaRows
import Derived.Test.YtnkjppclhhjdmaaL3
import Derived.WalkKit
import Derived.WalkSpells
import Derived.StillTactics
import Derived.Laws.Pointers
import Derived.Laws.Strings
import Derived.Laws.Strings2
import Derived.Laws.BytesArg
import Derived.LoopTactic
import Derived.Outline
import Derived.Below
import Derived.Laws.Externs
import Derived.Deep.QuietTactic
import Derived.Deep.RegionWith
import Derived.BigQuiet
import Derived.RegionTactic
import Derived.ChangeAlike
import Derived.OwnWalk
import Derived.Laws.OwnMore
import Derived.Laws.Rows
import Derived.Laws.EntriesVeiled
import Derived.Lib.MinMax
import Derived.Lib.Strings
namespace Go.Proofs.Ytnkjppclhhjdmaa
open Go.RowKit
set_option linter.unusedVariables false
set_option linter.unusedSimpArgs false
set_option linter.unnecessarySimpa false

def bn (s : ByteArray) : List Nat := s.data.toList.map UInt8.toNat
theorem bn_len (s : ByteArray) : (bn s).length = s.size := by unfold bn; rw [List.length_map, Array.length_toList]; rfl
theorem idx (s : ByteArray) (k : Nat) (h : k < s.size) (w : World) : (Instr.index 9 (.string s) (.int .i64 (k : Int))).run Try.prog w = .ok (.int .u8 ((((bn s).getD k 0 : Nat)) : Int)) w := by
  rw [Go.run_index_string w 9 s .i64 (k : Int) Try.underlying9]
  have hk : (0 : Int) ≤ k ∧ (k : Int) < s.size := by omega
  rw [dif_pos hk]
  obtain ⟨⟨l⟩⟩ := s
  have hl : k < l.length := h
  have e : (ByteArray.mk ⟨l⟩)[k]'hl = l[k]'hl := rfl
  have e2 : (bn ⟨⟨l⟩⟩).getD k 0 = (l[k]'hl).toNat := by
    unfold bn
    simp [List.getD, List.getElem?_eq_getElem hl]
  rw [e2]
  simp [e]

theorem isDigit_any (c : Nat) (w : World) : Calls Try.prog 41 #[.int .u8 (c : Int)] w fun e w' => e = .returned (.bool (Lx.dg c)) ∧ w = w' := by
  obtain ⟨x, hx⟩ : ∃ x : Int, x = (c : Int) := ⟨_, rfl⟩
  have e1 : Lx.dg c = (decide (48 ≤ x) && decide (x ≤ 57)) := by
    unfold Lx.dg; rw [hx, Bool.eq_iff_iff]; simp; omega
  rw [e1, ← hx]
  clear e1 hx
  by_cases h1 : 48 ≤ x
  · rw [decide_eq_true h1]
    skip
    go_enter Try.func41, Try.ntmps41
    go_wp2
    go_ret
    exact ⟨rfl, rfl⟩
  · rw [decide_eq_false h1]
    skip
    go_enter Try.func41, Try.ntmps41
    go_wp2
    go_ret
    exact ⟨rfl, rfl⟩

theorem rdigit_any (c : Nat) (w : World) : Calls Try.prog 44 #[.int .u8 (c : Int)] w fun e w' => e = .returned (.bool (Lx.dg c)) ∧ w = w' := by
  obtain ⟨x, hx⟩ : ∃ x : Int, x = (c : Int) := ⟨_, rfl⟩
  have e1 : Lx.dg c = (decide (48 ≤ x) && decide (x ≤ 57)) := by
    unfold Lx.dg; rw [hx, Bool.eq_iff_iff]; simp; omega
  rw [e1, ← hx]
  clear e1 hx
  by_cases h1 : 48 ≤ x
  · rw [decide_eq_true h1]
    skip
    go_enter Try.func44, Try.ntmps44
    go_wp2
    go_ret
    exact ⟨rfl, rfl⟩
  · rw [decide_eq_false h1]
    skip
    go_enter Try.func44, Try.ntmps44
    go_wp2
    go_ret
    exact ⟨rfl, rfl⟩

theorem lower_any (c : Nat) (w : World) : Calls Try.prog 28 #[.int .u8 (c : Int)] w fun e w' => e = .returned (.bool (Lx.lw c)) ∧ w = w' := by
  obtain ⟨x, hx⟩ : ∃ x : Int, x = (c : Int) := ⟨_, rfl⟩
  have e1 : Lx.lw c = (decide (97 ≤ x) && decide (x ≤ 122)) := by
    unfold Lx.lw; rw [hx, Bool.eq_iff_iff]; simp; omega
  rw [e1, ← hx]
  clear e1 hx
  by_cases h1 : 97 ≤ x
  · rw [decide_eq_true h1]
    skip
    go_enter Try.func28, Try.ntmps28
    go_wp2
    go_ret
    exact ⟨rfl, rfl⟩
  · rw [decide_eq_false h1]
    skip
    go_enter Try.func28, Try.ntmps28
    go_wp2
    go_ret
    exact ⟨rfl, rfl⟩

theorem rblank_any (c : Nat) (w : World) : Calls Try.prog 37 #[.int .u8 (c : Int)] w fun e w' => e = .returned (.bool (Lx.blk c)) ∧ w = w' := by
  obtain ⟨x, hx⟩ : ∃ x : Int, x = (c : Int) := ⟨_, rfl⟩
  have e1 : Lx.blk c = (x == 32 || x == 9) := by
    unfold Lx.blk; rw [hx, Bool.eq_iff_iff]; simp; omega
  rw [e1, ← hx]
  clear e1 hx
  by_cases h1 : x = 32
  · subst h1
    go_enter Try.func37, Try.ntmps37
    go_wp2
    go_ret
    exact ⟨rfl, rfl⟩
  · have h1' : (x == 32) = false := by simpa using h1
    rw [h1']
    go_enter Try.func37, Try.ntmps37
    go_wp2
    go_ret
    exact ⟨rfl, rfl⟩
theorem notBlank_any (c : Nat) (w : World) : Calls Try.prog 36 #[.int .u8 (c : Int)] w fun e w' => e = .returned (.bool (!Lx.blk c)) ∧ w = w' := by
  obtain ⟨x, hx⟩ : ∃ x : Int, x = (c : Int) := ⟨_, rfl⟩
  have hb : ∀ w, Hid (Calls Try.prog 35 #[.int .u8 x] w fun e w' => e = .returned (.bool (Lx.blk c)) ∧ w = w') := fun w => hide (by rw [hx]; exact isBlank_any c w)
  rw [← hx]
  clear hx
  go_enter Try.func36, Try.ntmps36
  go_wp2_with fail
  refine (hb _).out.mono ?_
  rintro e w' ⟨rfl, rfl⟩
  go_wp2_with fail
  go_ret
  exact ⟨rfl, rfl⟩
theorem name_any (c : Nat) (w : World) : Calls Try.prog 26 #[.int .u8 (c : Int)] w fun e w' => e = .returned (.bool (Lx.nm c)) ∧ w = w' := by
  obtain ⟨x, hx⟩ : ∃ x : Int, x = (c : Int) := ⟨_, rfl⟩
  have hb : ∀ w, Hid (Calls Try.prog 41 #[.int .u8 x] w fun e w' => e = .returned (.bool (Lx.dg c)) ∧ w = w') := fun w => hide (by rw [hx]; exact isDigit_any c w)
  have e1 : Lx.nm c = ((decide (65 ≤ x) && decide (x ≤ 90)) || Lx.dg c || x == 45) := by
    have a1 : decide (65 ≤ c) = decide (65 ≤ x) := by rw [hx]; simp only [decide_eq_decide]; omega
    have a2 : decide (c ≤ 90) = decide (x ≤ 90) := by rw [hx]; simp only [decide_eq_decide]; omega
    have a3 : (c == 45) = (x == 45) := by rw [hx, Bool.eq_iff_iff]; simp; omega
    unfold Lx.nm; rw [a1, a2, a3]
  rw [e1, ← hx]
  clear e1
  obtain ⟨d, hd⟩ : ∃ d, d = Lx.dg c := ⟨_, rfl⟩
  rw [← hd] at hb ⊢
  clear hd hx
  by_cases h1 : 65 ≤ x
  · by_cases h2 : x ≤ 90
    · rw [decide_eq_true h1, decide_eq_true h2]
      go_enter Try.func26, Try.ntmps26
      go_wp2_with fail
      go_ret
      exact ⟨rfl, rfl⟩
    · rw [decide_eq_true h1, decide_eq_false h2]
      go_enter Try.func26, Try.ntmps26
      go_wp2_with fail
      refine (hb _).out.mono ?_
      rintro e w' ⟨rfl, rfl⟩
      cases d
      · go_wp2_with fail
        go_ret
        exact ⟨rfl, rfl⟩
      · go_wp2_with fail
        go_ret
        exact ⟨rfl, rfl⟩
  · rw [decide_eq_false h1]
    go_enter Try.func26, Try.ntmps26
    go_wp2_with fail
    refine (hb _).out.mono ?_
    rintro e w' ⟨rfl, rfl⟩
    cases d
    · go_wp2_with fail
      go_ret
      exact ⟨rfl, rfl⟩
    · go_wp2_with fail
      go_ret
      exact ⟨rfl, rfl⟩

end Go.Proofs.Ytnkjppclhhjdmaa
