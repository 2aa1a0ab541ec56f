/-
  Contracts of date's small functions (IsLeap, DaysInMonth, Valid, Weekday, newYear) at this translation. Conditions: the table of the months' lengths holds the program's numbers.
-/
import Derived.Test.YtahfjhmgmpbmkacDoorRows
import Derived.Test.YtahfjhmgmpbmkacDoorShelf
import Derived.WalkKit
import Derived.WalkSpells
import Derived.StillTactics
import Derived.Laws.Pointers
import Derived.LoopTactic
import Derived.Outline
import Derived.Below
import Derived.Deep.QuietTactic
import Derived.Deep.RegionWith
import Derived.BigQuiet
import Derived.Lib.SmallJoins
namespace Go.Proofs.YtahfjhmgmpbmkacDoor
open Go.RowKit
set_option linter.unusedVariables false

theorem ret_i {k : IntKind} {a b : Int} (h : a = b) : Ending.returned (.int k a) = .returned (.int k b) := by rw [h]
theorem ret_ii {k k' : IntKind} {a b c d : Int} (h : a = b) (h' : c = d) : Ending.returned (.tuple #[.int k a, .int k' c]) = .returned (.tuple #[.int k b, .int k' d]) := by rw [h, h']
theorem ret_b {a b : Bool} (h : a = b) : Ending.returned (.bool a) = .returned (.bool b) := by rw [h]
theorem hide {p : Prop} (h : p) : Hid p := h
theorem below_drewN {B : Nat} {a w : World} (h : Below B a w) (n : Nat) : Below B a (w.drewN n) := ⟨h.os, h.tape, h.output, h.size, h.block⟩
theorem below_grow {B : Nat} {a w : World} (h : Below B a w) (hB : B ≤ w.heap.size) (os : Array Obj) : Below B a (Go.Sort.grow w os) :=
  ⟨h.os, h.tape, h.output, by have := h.size; simp [Go.Sort.grow]; omega, fun k hk => by rw [← h.block k hk]; simp only [Go.Sort.grow]; rw [Array.getElem?_append_left (by omega)]⟩
theorem wf_bounds {a : Int} (h : (Lit.int .i64 a).wf = true) : -9223372036854775808 ≤ a ∧ a ≤ 9223372036854775807 := by
  simp [Lit.wf] at h; simp [IntKind.min, IntKind.signed, IntKind.bits] at h; exact h

/-- The months' lengths in a year that is no leap year. -/
def monthTab : List Int := [31, 28, 31, 30, 31, 30, 31, 31, 30, 31, 30, 31]
/-- What the walks ask of the package-level tables. -/
structure Tabs (w : World) : Prop where
  months : Lib.TabIs Tryd.prog w "giro/date.monthLengths" .i64 monthTab
  pows : Lib.TabIs Tryd.prog w "internal/strconv.uint64pow10" .u64 Lib.pow10Tab
  size : 4 ≤ w.heap.size
theorem gMonths : Tryd.prog.globalNamed "giro/date.monthLengths" = some 0 := by kernel_rfl
theorem gPows : Tryd.prog.globalNamed "internal/strconv.uint64pow10" = some 1 := by kernel_rfl
theorem Tabs.keep {w w' : World} (h : Tabs w) (hb : Below w.heap.size w w') : Tabs w' :=
  ⟨Go.Joins.tab_stays gMonths h.months hb (Nat.le_refl _), Go.Joins.tab_stays gPows h.pows hb (Nat.le_refl _), Nat.le_trans h.size hb.size⟩
theorem Tabs.month {w : World} (h : Tabs w) (k : Nat) (hk : k < 12) : w.cell? ⟨0, k, none⟩ = some (.int .i64 (monthTab.getD k 0)) := by
  have := h.months.cell gMonths k hk
  simpa using this

/-- Leap years. -/
def leapB (y : Int) : Bool := decide ((y % 4 = 0 ∧ y % 100 ≠ 0) ∨ y % 400 = 0)
theorem tmod_iff (y k : Int) : (y.tmod k == 0) = decide (y % k = 0) := by
  have h : y.tmod k = 0 ↔ y % k = 0 := ⟨fun h => Int.emod_eq_zero_of_dvd (Int.dvd_of_tmod_eq_zero h), fun h => Int.tmod_eq_zero_of_dvd (Int.dvd_of_emod_eq_zero h)⟩
  by_cases hk : y % k = 0
  · rw [decide_eq_true hk]; simpa using h.2 hk
  · rw [decide_eq_false hk]; simpa using fun e => hk (h.1 e)
theorem tmod_ne (y k : Int) : (y.tmod k != 0) = !decide (y % k = 0) := by rw [bne, tmod_iff]

theorem leap_any (y : Int) (w : World) : Calls Tryd.prog 24 #[.int .i64 y] w fun e w' => e = .returned (.bool (leapB y)) ∧ w = w' := by
  have a1 := tmod_iff y 4
  have a2 := tmod_ne y 100
  have a3 := tmod_iff y 400
  by_cases h4 : y % 4 = 0
  · skip
    by_cases h100 : y % 100 = 0
    · skip
      by_cases h400 : y % 400 = 0
      · skip
        have e : leapB y = true := by unfold leapB; simp [h4, h100, h400]
        rw [e]
        simp only [h4, h100, h400, decide_true, Bool.not_true] at a1 a2 a3
        have b1 : (y % 4 == 0) = true := by simpa using h4
        have b2 : (y % 100 != 0) = false := by simpa using h100
        have b3 : (y % 400 == 0) = true := by simpa using h400
        clear h4 h100 h400 e
        go_enter Tryd.func24, Tryd.ntmps24
        go_wp2
        go_ret
        exact ⟨rfl, rfl⟩
      · skip
        have e : leapB y = false := by unfold leapB; simp [h4, h100, h400]
        rw [e]
        simp only [h4, h100, h400, decide_true, decide_false, Bool.not_true] at a1 a2 a3
        have b1 : (y % 4 == 0) = true := by simpa using h4
        have b2 : (y % 100 != 0) = false := by simpa using h100
        have b3 : (y % 400 == 0) = false := by simpa using h400
        clear h4 h100 h400 e
        go_enter Tryd.func24, Tryd.ntmps24
        go_wp2
        go_ret
        exact ⟨rfl, rfl⟩
    · skip
      by_cases h400 : y % 400 = 0
      · skip
        omega
      · skip
        have e : leapB y = true := by unfold leapB; simp [h4, h100, h400]
        rw [e]
        simp only [h4, h100, h400, decide_true, decide_false, Bool.not_false] at a1 a2 a3
        have b1 : (y % 4 == 0) = true := by simpa using h4
        have b2 : (y % 100 != 0) = true := by simpa using h100
        have b3 : (y % 400 == 0) = false := by simpa using h400
        clear h4 h100 h400 e
        go_enter Tryd.func24, Tryd.ntmps24
        go_wp2
        go_ret
        exact ⟨rfl, rfl⟩
  · skip
    by_cases h100 : y % 100 = 0
    · skip
      omega
    · skip
      by_cases h400 : y % 400 = 0
      · skip
        omega
      · skip
        have e : leapB y = false := by unfold leapB; simp [h4, h100, h400]
        rw [e]
        simp only [h4, h100, h400, decide_false, Bool.not_false] at a1 a2 a3
        have b1 : (y % 4 == 0) = false := by simpa using h4
        have b2 : (y % 100 != 0) = true := by simpa using h100
        have b3 : (y % 400 == 0) = false := by simpa using h400
        clear h4 h100 h400 e
        go_enter Tryd.func24, Tryd.ntmps24
        go_wp2
        go_ret
        exact ⟨rfl, rfl⟩

/-- The length of a month, 0 for none. -/
def dim (y m : Int) : Int := if y < 2000 ∨ 2199 < y ∨ m < 1 ∨ 12 < m then 0 else if m = 2 ∧ leapB y = true then 29 else monthTab.getD (m - 1).toNat 0

theorem dim_no (y m : Int) (w : World) (h : y < 2000 ∨ 2199 < y ∨ m < 1 ∨ 12 < m) : Calls Tryd.prog 26 #[.int .i64 y, .int .i64 m] w fun e w' => e = .returned (.int .i64 (dim y m)) ∧ w = w' := by
  have e : dim y m = 0 := by unfold dim; rw [if_pos h]
  rw [e]
  clear e
  by_cases h1 : y < 2000
  · clear h
    go_enter Tryd.func26, Tryd.ntmps26
    go_wp2
    go_ret
    exact ⟨rfl, rfl⟩
  · by_cases h2 : 2199 < y
    · clear h
      go_enter Tryd.func26, Tryd.ntmps26
      go_wp2
      go_ret
      exact ⟨rfl, rfl⟩
    · by_cases h3 : m < 1
      · clear h
        go_enter Tryd.func26, Tryd.ntmps26
        go_wp2
        go_ret
        exact ⟨rfl, rfl⟩
      · have h4 : 12 < m := by omega
        clear h
        go_enter Tryd.func26, Tryd.ntmps26
        go_wp2
        go_ret
        exact ⟨rfl, rfl⟩

theorem dim_in (y : Int) (k : Nat) (w : World) (T : Tabs w) (h1 : 2000 ≤ y) (h2 : y ≤ 2199) (hk : k < 12) : Calls Tryd.prog 26 #[.int .i64 y, .int .i64 ((k : Int) + 1)] w fun e w' => e = .returned (.int .i64 (dim y ((k : Int) + 1))) ∧ w = w' := by
  have hc := T.month k hk
  have l := fun w => hide (leap_any y w)
  have e0 : dim y ((k : Int) + 1) = if (k : Int) + 1 = 2 ∧ leapB y = true then 29 else monthTab.getD k 0 := by
    unfold dim; rw [if_neg (by omega)]; simp
  by_cases h3 : k = 1
  · subst h3
    cases hl : leapB y
    · have e : dim y (((1 : Nat) : Int) + 1) = 28 := by rw [e0, hl]; rfl
      have F := hide (ret_i (k := .i64) e.symm)
      have hc1 : w.cell? ⟨0, 1, none⟩ = some (.int .i64 28) := hc
      rw [hl] at l
      clear e0 e hc hl
      go_enter Tryd.func26, Tryd.ntmps26
      go_wp2_with fail
      refine (l _).out.mono ?_
      rintro e w' ⟨rfl, rfl⟩
      go_wp2_with fail
      go_ret
      exact ⟨F.out, rfl⟩
    · have e : dim y (((1 : Nat) : Int) + 1) = 29 := by rw [e0, hl]; rfl
      have F := hide (ret_i (k := .i64) e.symm)
      rw [hl] at l
      clear e0 e hc hl
      go_enter Tryd.func26, Tryd.ntmps26
      go_wp2_with fail
      refine (l _).out.mono ?_
      rintro e w' ⟨rfl, rfl⟩
      go_wp2_with fail
      go_ret
      exact ⟨F.out, rfl⟩
  · obtain ⟨v, hv⟩ : ∃ v, v = monthTab.getD k 0 := ⟨_, rfl⟩
    have e : dim y ((k : Int) + 1) = v := by rw [e0, if_neg (by omega), hv]
    have F := hide (ret_i (k := .i64) e.symm)
    rw [← hv] at hc
    have hne : ((k : Int) + 1 == 2) = false := by simp; omega
    clear e0 e hv h3
    go_enter Tryd.func26, Tryd.ntmps26
    go_wp2_with fail
    go_ret
    exact ⟨F.out, rfl⟩

/-- date.DaysInMonth. -/
theorem dim_any (y m : Int) (w : World) (T : Tabs w) : Calls Tryd.prog 26 #[.int .i64 y, .int .i64 m] w fun e w' => e = .returned (.int .i64 (dim y m)) ∧ w = w' := by
  by_cases h : y < 2000 ∨ 2199 < y ∨ m < 1 ∨ 12 < m
  · exact dim_no y m w h
  · obtain ⟨k, hk⟩ : ∃ k : Nat, m = (k : Int) + 1 := ⟨(m - 1).toNat, by omega⟩
    subst hk
    exact dim_in y k w T (by omega) (by omega) (by omega)

/-- Whether a number is a day number. -/
def dayB (n : Int) : Bool := decide (0 ≤ n ∧ n ≤ 73048)
theorem dayB_yes {n : Int} (h1 : 0 ≤ n) (h2 : n ≤ 73048) : dayB n = true := decide_eq_true ⟨h1, h2⟩
theorem dayB_no {n : Int} (h : n < 0 ∨ 73048 < n) : dayB n = false := decide_eq_false (by omega)
theorem valid_any (n : Int) (w : World) : Calls Tryd.prog 17 #[.int .i64 n] w fun e w' => e = .returned (.bool (dayB n)) ∧ w = w' := by
  by_cases h1 : 0 ≤ n
  · by_cases h2 : n ≤ 73048
    · rw [dayB_yes h1 h2]
      go_enter Tryd.func17, Tryd.ntmps17
      go_wp2
      go_ret
      exact ⟨rfl, rfl⟩
    · rw [dayB_no (by omega)]
      have hd : decide (n ≤ 73048) = false := by simp; omega
      go_enter Tryd.func17, Tryd.ntmps17
      go_wp2
      go_ret
      exact ⟨rfl, rfl⟩
  · rw [dayB_no (by omega)]
    go_enter Tryd.func17, Tryd.ntmps17
    go_wp2
    go_ret
    exact ⟨rfl, rfl⟩

def wkd (n : Int) : Int := if 0 ≤ n ∧ n ≤ 73048 then (n + 5) % 7 else -1
end Go.Proofs.YtahfjhmgmpbmkacDoor
