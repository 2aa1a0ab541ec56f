/-
  Contracts of the small functions of ident and its reference at this translation.
-/
import Derived.Test.YtjjaemobgfconaaDoorId2
import Derived.Test.YtjjaemobgfconaaDoorAm3
import Derived.Test.YtjjaemobgfconaaDoorRows
import Derived.Test.YtjjaemobgfconaaDoorProg
import Derived.WalkKit
import Derived.WalkSpells
import Derived.StillTactics
import Derived.Laws.Pointers
import Derived.Laws.Strings
import Derived.Laws.Strings2
import Derived.Laws.BytesArg
import Derived.LoopTactic
import Derived.Outline
import Derived.Below
import Derived.Deep.QuietTactic
import Derived.Deep.RegionWith
import Derived.BigQuiet
import Derived.Lib.SmallJoins
namespace Go.Proofs.YtjjaemobgfconaaDoor
open Go.RowKit
set_option linter.unusedVariables false

theorem ret_b {a b : Bool} (h : a = b) : Ending.returned (.bool a) = .returned (.bool b) := by rw [h]

theorem isL_yes {c : Int} (h1 : 65 ≤ c) (h2 : c ≤ 90) : isL c = true := decide_eq_true ⟨h1, h2⟩
theorem isL_no {c : Int} (h : c < 65 ∨ 90 < c) : isL c = false := decide_eq_false (by omega)
theorem isD_yes {c : Int} (h1 : 48 ≤ c) (h2 : c ≤ 57) : isD c = true := decide_eq_true ⟨h1, h2⟩
theorem isD_no {c : Int} (h : c < 48 ∨ 57 < c) : isD c = false := decide_eq_false (by omega)

theorem let_any (c : Int) (w : World) : Calls Tryd.prog 65 #[.int .u8 c] w fun e w' => e = .returned (.bool (isL c)) ∧ w = w' := by
  by_cases h1 : 65 ≤ c
  · by_cases h2 : c ≤ 90
    · rw [isL_yes h1 h2]
      go_enter Tryd.func65, Tryd.ntmps65
      go_wp2
      go_ret
      exact ⟨rfl, rfl⟩
    · rw [isL_no (by omega)]
      have h3 : 90 < c := by omega
      go_enter Tryd.func65, Tryd.ntmps65
      go_wp2
      go_ret
      exact ⟨rfl, rfl⟩
  · rw [isL_no (by omega)]
    have h3 : c < 65 := by omega
    go_enter Tryd.func65, Tryd.ntmps65
    go_wp2
    go_ret
    exact ⟨rfl, rfl⟩
theorem dig_any (c : Int) (w : World) : Calls Tryd.prog 66 #[.int .u8 c] w fun e w' => e = .returned (.bool (isD c)) ∧ w = w' := by
  by_cases h1 : 48 ≤ c
  · by_cases h2 : c ≤ 57
    · rw [isD_yes h1 h2]
      go_enter Tryd.func66, Tryd.ntmps66
      go_wp2
      go_ret
      exact ⟨rfl, rfl⟩
    · rw [isD_no (by omega)]
      have h3 : 57 < c := by omega
      go_enter Tryd.func66, Tryd.ntmps66
      go_wp2
      go_ret
      exact ⟨rfl, rfl⟩
  · rw [isD_no (by omega)]
    have h3 : c < 48 := by omega
    go_enter Tryd.func66, Tryd.ntmps66
    go_wp2
    go_ret
    exact ⟨rfl, rfl⟩
theorem il_any (c : Int) (w : World) : Calls Tryd.prog 71 #[.int .u8 c] w fun e w' => e = .returned (.bool (isL c)) ∧ w = w' := by
  by_cases h1 : 65 ≤ c
  · by_cases h2 : c ≤ 90
    · rw [isL_yes h1 h2]
      go_enter Tryd.func71, Tryd.ntmps71
      go_wp2
      go_ret
      exact ⟨rfl, rfl⟩
    · rw [isL_no (by omega)]
      have h3 : 90 < c := by omega
      go_enter Tryd.func71, Tryd.ntmps71
      go_wp2
      go_ret
      exact ⟨rfl, rfl⟩
  · rw [isL_no (by omega)]
    have h3 : c < 65 := by omega
    go_enter Tryd.func71, Tryd.ntmps71
    go_wp2
    go_ret
    exact ⟨rfl, rfl⟩
theorem id_any (c : Int) (w : World) : Calls Tryd.prog 72 #[.int .u8 c] w fun e w' => e = .returned (.bool (isD c)) ∧ w = w' := by
  by_cases h1 : 48 ≤ c
  · by_cases h2 : c ≤ 57
    · rw [isD_yes h1 h2]
      go_enter Tryd.func72, Tryd.ntmps72
      go_wp2
      go_ret
      exact ⟨rfl, rfl⟩
    · rw [isD_no (by omega)]
      have h3 : 57 < c := by omega
      go_enter Tryd.func72, Tryd.ntmps72
      go_wp2
      go_ret
      exact ⟨rfl, rfl⟩
  · rw [isD_no (by omega)]
    have h3 : c < 48 := by omega
    go_enter Tryd.func72, Tryd.ntmps72
    go_wp2
    go_ret
    exact ⟨rfl, rfl⟩
theorem val_any (c : Int) (w : World) (h : al c) : Calls Tryd.prog 70 #[.int .u8 c] w fun e w' => e = .returned (.int .i64 (val c)) ∧ w = w' := by
  unfold al at h
  by_cases h57 : c ≤ 57
  · have v : val c = c - 48 := if_pos h57
    rw [v]
    have h48 : 48 ≤ c := by omega
    have e1 : IntKind.u8.wrap (c - 48) = c - 48 := by simp [IntKind.wrap, IntKind.bits, IntKind.signed]; omega
    clear h v
    go_enter Tryd.func70, Tryd.ntmps70
    go_wp2
    go_ret
    exact ⟨rfl, rfl⟩
  · have v : val c = c - 65 + 10 := by unfold val; rw [if_neg h57]; omega
    rw [v]
    have h65 : 65 ≤ c := by omega
    have h90 : c ≤ 90 := by omega
    have e1 : IntKind.u8.wrap (c - 65) = c - 65 := by simp [IntKind.wrap, IntKind.bits, IntKind.signed]; omega
    clear h v
    go_enter Tryd.func70, Tryd.ntmps70
    go_wp2
    go_ret
    exact ⟨rfl, rfl⟩

/-- A byte is permitted at an index. -/
def may (kind i c : Int) : Bool :=
  if kind = 0 then (if i < 2 then isL c else if i < 11 then isL c || isD c else if i = 11 then isD c else false)
  else if kind = 1 then (isL c || (decide (0 < i) && isD c))
  else if kind = 2 then (isL c || isD c || decide (c = 45))
  else (isD c || (decide (i < 18) && isL c))
theorem may_any (kind i c : Int) (w : World) (hi : 0 ≤ i) : Calls Tryd.prog 56 #[.int .i64 kind, .int .i64 i, .int .u8 c] w fun e w' => e = .returned (.bool (may kind i c)) ∧ w = w' := by
  have le := fun w => hide (let_any c w)
  have di := fun w => hide (dig_any c w)
  by_cases k0 : kind = 0
  · subst k0
    by_cases i2 : i < 2
    · have e : may 0 i c = isL c := by simp [may, i2]
      rw [e]
      clear e
      cases hL : isL c <;> rw [hL] at le <;> clear hL
      all_goals
        go_enter Tryd.func56, Tryd.ntmps56
        go_wp2_with (first | (go_at_call 65; refine (le _).out.mono ?_; rintro e w' ⟨rfl, rfl⟩) | (go_at_call 66; refine (di _).out.mono ?_; rintro e w' ⟨rfl, rfl⟩))
        go_ret
        exact ⟨rfl, rfl⟩
    · by_cases i11 : i < 11
      · have e : may 0 i c = (isL c || isD c) := by simp [may, i2, i11]
        rw [e]
        clear e
        have i2' : 2 ≤ i := by omega
        have h11 : ¬ i = 11 := by omega
        cases hL : isL c <;> cases hD : isD c <;> rw [hL] at le <;> rw [hD] at di <;> clear hL hD
        all_goals
          go_enter Tryd.func56, Tryd.ntmps56
          go_wp2_with (first | (go_at_call 65; refine (le _).out.mono ?_; rintro e w' ⟨rfl, rfl⟩) | (go_at_call 66; refine (di _).out.mono ?_; rintro e w' ⟨rfl, rfl⟩))
          go_ret
          exact ⟨rfl, rfl⟩
      · by_cases h11 : i = 11
        · subst h11
          have e : may 0 11 c = isD c := by simp [may]
          rw [e]
          clear e
          cases hD : isD c <;> rw [hD] at di <;> clear hD
          all_goals
            go_enter Tryd.func56, Tryd.ntmps56
            go_wp2_with (first | (go_at_call 65; refine (le _).out.mono ?_; rintro e w' ⟨rfl, rfl⟩) | (go_at_call 66; refine (di _).out.mono ?_; rintro e w' ⟨rfl, rfl⟩))
            go_ret
            exact ⟨rfl, rfl⟩
        · have e : may 0 i c = false := by simp [may, i2, i11, h11]
          rw [e]
          clear e
          have i12 : 12 ≤ i := by omega
          go_enter Tryd.func56, Tryd.ntmps56
          go_wp2_with (first | (go_at_call 65; refine (le _).out.mono ?_; rintro e w' ⟨rfl, rfl⟩) | (go_at_call 66; refine (di _).out.mono ?_; rintro e w' ⟨rfl, rfl⟩))
          go_ret
          exact ⟨rfl, rfl⟩
  · by_cases k1 : kind = 1
    · subst k1
      by_cases i0 : 0 < i
      · have e : may 1 i c = (isL c || isD c) := by simp [may, i0]
        rw [e]
        clear e
        cases hL : isL c <;> cases hD : isD c <;> rw [hL] at le <;> rw [hD] at di <;> clear hL hD
        all_goals
          go_enter Tryd.func56, Tryd.ntmps56
          go_wp2_with (first | (go_at_call 65; refine (le _).out.mono ?_; rintro e w' ⟨rfl, rfl⟩) | (go_at_call 66; refine (di _).out.mono ?_; rintro e w' ⟨rfl, rfl⟩))
          go_ret
          exact ⟨rfl, rfl⟩
      · have e : may 1 i c = isL c := by simp [may, i0]
        rw [e]
        clear e
        cases hL : isL c <;> rw [hL] at le <;> clear hL
        all_goals
          go_enter Tryd.func56, Tryd.ntmps56
          go_wp2_with (first | (go_at_call 65; refine (le _).out.mono ?_; rintro e w' ⟨rfl, rfl⟩) | (go_at_call 66; refine (di _).out.mono ?_; rintro e w' ⟨rfl, rfl⟩))
          go_ret
          exact ⟨rfl, rfl⟩
    · by_cases k2 : kind = 2
      · subst k2
        by_cases h45 : c = 45
        · subst h45
          have e : may 2 i 45 = true := by simp [may]
          rw [e]
          clear e
          rw [isL_no (by omega)] at le
          rw [isD_no (by omega)] at di
          go_enter Tryd.func56, Tryd.ntmps56
          go_wp2_with (first | (go_at_call 65; refine (le _).out.mono ?_; rintro e w' ⟨rfl, rfl⟩) | (go_at_call 66; refine (di _).out.mono ?_; rintro e w' ⟨rfl, rfl⟩))
          go_ret
          exact ⟨rfl, rfl⟩
        · have e : may 2 i c = (isL c || isD c) := by simp [may, h45]
          rw [e]
          clear e
          have h45b : (c == 45) = false := by simpa using h45
          cases hL : isL c <;> cases hD : isD c <;> rw [hL] at le <;> rw [hD] at di <;> clear hL hD
          all_goals
            go_enter Tryd.func56, Tryd.ntmps56
            go_wp2_with (first | (go_at_call 65; refine (le _).out.mono ?_; rintro e w' ⟨rfl, rfl⟩) | (go_at_call 66; refine (di _).out.mono ?_; rintro e w' ⟨rfl, rfl⟩))
            go_ret
            exact ⟨rfl, rfl⟩
      · by_cases i18 : i < 18
        · have e : may kind i c = (isD c || isL c) := by simp [may, k0, k1, k2, i18]
          rw [e]
          clear e
          cases hL : isL c <;> cases hD : isD c <;> rw [hL] at le <;> rw [hD] at di <;> clear hL hD
          all_goals
            go_enter Tryd.func56, Tryd.ntmps56
            go_wp2_with (first | (go_at_call 65; refine (le _).out.mono ?_; rintro e w' ⟨rfl, rfl⟩) | (go_at_call 66; refine (di _).out.mono ?_; rintro e w' ⟨rfl, rfl⟩))
            go_ret
            exact ⟨rfl, rfl⟩
        · have e : may kind i c = isD c := by simp [may, k0, k1, k2, i18]
          rw [e]
          clear e
          cases hD : isD c <;> rw [hD] at di <;> clear hD
          all_goals
            go_enter Tryd.func56, Tryd.ntmps56
            go_wp2_with (first | (go_at_call 65; refine (le _).out.mono ?_; rintro e w' ⟨rfl, rfl⟩) | (go_at_call 66; refine (di _).out.mono ?_; rintro e w' ⟨rfl, rfl⟩))
            go_ret
            exact ⟨rfl, rfl⟩

/-- The smallest and the greatest length of a kind. -/
def loK (kind : Int) : Int := if kind = 0 then 12 else if kind = 1 then 4 else if kind = 2 then 1 else 20
def hiK (kind : Int) : Int := if kind = 0 then 12 else if kind = 1 then 8 else if kind = 2 then 16 else 20
theorem len_any (kind : Int) (w : World) : Calls Tryd.prog 55 #[.int .i64 kind] w fun e w' => e = .returned (.tuple #[.int .i64 (loK kind), .int .i64 (hiK kind)]) ∧ w = w' := by
  unfold loK hiK
  by_cases k0 : kind = 0
  · subst k0
    go_enter Tryd.func55, Tryd.ntmps55
    go_wp2
    go_ret2
    exact ⟨rfl, rfl⟩
  · by_cases k1 : kind = 1
    · subst k1
      go_enter Tryd.func55, Tryd.ntmps55
      go_wp2
      go_ret2
      exact ⟨rfl, rfl⟩
    · by_cases k2 : kind = 2
      · subst k2
        go_enter Tryd.func55, Tryd.ntmps55
        go_wp2
        go_ret2
        exact ⟨rfl, rfl⟩
      · simp only [k0, k1, k2, if_false]
        go_enter Tryd.func55, Tryd.ntmps55
        go_wp2
        go_ret2
        exact ⟨rfl, rfl⟩

/-- The string of a slice of two bytes that was just made. -/
theorem conv2 (W : World) (x y : Int) : (convert 104 9 (.slice (some ⟨W.heap.size, 0, none⟩) 2 2)).run Tryd.prog (W.alloc (.cells #[.int .u8 x, .int .u8 y] 5)) =
    .ok (.string ⟨#[UInt8.ofNat x.toNat, UInt8.ofNat y.toNat]⟩) (W.alloc (.cells #[.int .u8 x, .int .u8 y] 5)) := by
  refine run_convert_bytes_arg _ 104 5 Tryd.underlying104 Tryd.underlying5 W.heap.size 0 2 2 [x, y] rfl (fun i hi => ?_) 9 Tryd.underlying9
  have : i = 0 ∨ i = 1 := by omega
  rcases this with rfl | rfl <;> simp [World.cell?_alloc_new]
/-- Two digits. -/
def dd (n : Int) : ByteArray := ⟨#[UInt8.ofNat (48 + n / 10).toNat, UInt8.ofNat (48 + n % 10).toNat]⟩
theorem pair_any (n : Int) (w : World) (h1 : 0 ≤ n) (h2 : n ≤ 99) : Calls Tryd.prog 58 #[.int .i64 n] w fun e w' => e = .returned (.string (dd n)) ∧ Below w.heap.size w w' := by
  have hcv := conv2 w (48 + n / 10) (48 + n % 10)
  have e3 : (IntKind.u8.wrap (48 + n / 10)) = 48 + n / 10 := by simp [IntKind.wrap, IntKind.bits, IntKind.signed]; omega
  have e4 : (IntKind.u8.wrap (48 + n % 10)) = 48 + n % 10 := by simp [IntKind.wrap, IntKind.bits, IntKind.signed]; omega
  go_enter Tryd.func58, Tryd.ntmps58
  go_wp2
  go_ret
  exact ⟨rfl, (Below.refl _ _).alloc (Nat.le_refl _) _⟩
end Go.Proofs.YtjjaemobgfconaaDoor
