/-
  Contracts of date.yearOf and ToCivil at this translation, each at the year and the month that a day number lies in.
-/
import Derived.Test.YtahfjhmgmpbmkacDoorDa2
namespace Go.Proofs.YtahfjhmgmpbmkacDoor
open Go.RowKit
set_option linter.unusedVariables false

theorem ny_mono {a b : Int} (h : a ≤ b) : NY a ≤ NY b := by unfold NY lb; omega
theorem ny_start (n : Int) (h : 0 ≤ n) (h2 : n ≤ 80000) : NY (2000 + n / 366) ≤ n := by unfold NY lb; omega
theorem ny_2000 : NY 2000 = 0 := by decide
theorem ny_1999 : NY 1999 = -365 := by decide
theorem ny_2200 : NY 2200 = 73049 := by decide
theorem ny_2201 : NY 2201 = 73414 := by decide

theorem yearOf_any (n y : Int) (w : World) (h1 : NY y ≤ n) (h2 : n < NY (y + 1)) (n1 : -10 ≤ n) (n2 : n ≤ 73060) (y1 : 1999 ≤ y) (y2 : y ≤ 2200) :
    Calls Tryd.prog 44 #[.int .i64 n] w fun e w' => e = .returned (.int .i64 y) ∧ w = w' := by
  have start : ∀ Y, 1999 ≤ Y → NY Y ≤ n → Y ≤ y := fun Y hY h => by
    apply Classical.byContradiction
    intro hc
    have := ny_mono (show y + 1 ≤ Y by omega)
    omega
  have H1 := hide h1
  have H2 := hide h2
  have round : ∀ (K : Int), True := fun _ => trivial
  clear round
  by_cases hn : n < 0
  · have e0 : n.tdiv 366 = 0 := by
      have : n = -1 ∨ n = -2 ∨ n = -3 ∨ n = -4 ∨ n = -5 ∨ n = -6 ∨ n = -7 ∨ n = -8 ∨ n = -9 ∨ n = -10 := by omega
      rcases this with rfl | rfl | rfl | rfl | rfl | rfl | rfl | rfl | rfl | rfl <;> decide
    clear h1 h2 start
    go_enter Tryd.func44, Tryd.ntmps44
    go_wp2_with fail
    go_loop [3] (fun s => ∃ Y : Int, s = .int .i64 Y ∧ 1999 ≤ Y ∧ Y ≤ y) (fun s => (y - intOf s).toNat)
    case atStart => exact ⟨_, rfl, by omega, y1⟩
    case round =>
      obtain ⟨Y, rfl, hY1, hY2⟩ := hrel
      by_cases hlt : Y < y
      · have hm := ny_mono (show Y + 1 ≤ y by omega)
        have hle : NY (Y + 1) ≤ n := by have := H1.out; omega
        clear hm
        go_wp2_with (go_at_call 45; refine (ny_any _ _ (by omega) (by omega)).mono ?_; rintro e w' ⟨rfl, rfl⟩)
        go_round
        case rel => exact ⟨_, rfl, by omega, by omega⟩
        case measure => simp [intOf]; omega
      · obtain rfl : Y = y := by omega
        have hlt2 : n < NY (Y + 1) := H2.out
        go_wp2_with (go_at_call 45; refine (ny_any _ _ (by omega) (by omega)).mono ?_; rintro e w' ⟨rfl, rfl⟩)
        go_ret
        exact ⟨rfl, rfl⟩
  · have hs := ny_start n (by omega) (by omega)
    have hs2 := start (2000 + n / 366) (by omega) hs
    clear h1 h2 start hs
    go_enter Tryd.func44, Tryd.ntmps44
    go_wp2_with fail
    go_loop [3] (fun s => ∃ Y : Int, s = .int .i64 Y ∧ 1999 ≤ Y ∧ Y ≤ y) (fun s => (y - intOf s).toNat)
    case atStart => exact ⟨_, rfl, by omega, hs2⟩
    case round =>
      obtain ⟨Y, rfl, hY1, hY2⟩ := hrel
      by_cases hlt : Y < y
      · have hm := ny_mono (show Y + 1 ≤ y by omega)
        have hle : NY (Y + 1) ≤ n := by have := H1.out; omega
        clear hm
        go_wp2_with (go_at_call 45; refine (ny_any _ _ (by omega) (by omega)).mono ?_; rintro e w' ⟨rfl, rfl⟩)
        go_round
        case rel => exact ⟨_, rfl, by omega, by omega⟩
        case measure => simp [intOf]; omega
      · obtain rfl : Y = y := by omega
        have hlt2 : n < NY (Y + 1) := H2.out
        go_wp2_with (go_at_call 45; refine (ny_any _ _ (by omega) (by omega)).mono ?_; rintro e w' ⟨rfl, rfl⟩)
        go_ret
        exact ⟨rfl, rfl⟩

theorem cum_mono (y : Int) {j k : Nat} (h : j ≤ k) : cum y j ≤ cum y k := by
  induction k with
  | zero => obtain rfl : j = 0 := by omega
            exact Int.le_refl _
  | succ k ih =>
    by_cases hj : j ≤ k
    · have := ih hj; have := (dim_bd y ((k : Int) + 1)).1; simp only [cum]; omega
    · obtain rfl : j = k + 1 := by omega
      exact Int.le_refl _
theorem cum_12 (y : Int) (h1 : 2000 ≤ y) (h2 : y ≤ 2199) : cum y 12 = NY (y + 1) - NY y := by
  rw [leap_01]
  have hh : ¬ (y < 2000 ∨ 2199 < y) := by omega
  cases hl : leapB y <;> simp [cum, dim, hl, monthTab, show ¬ y < 2000 by omega, show ¬ 2199 < y by omega] <;> omega

/-- The year and the month of a day number. -/
structure InMonth (n y : Int) (k : Nat) : Prop where
  y1 : 2000 ≤ y
  y2 : y ≤ 2199
  lo : NY y ≤ n
  hi : n < NY (y + 1)
  k12 : k < 12
  c1 : cum y k ≤ n - NY y
  c2 : n - NY y < cum y (k + 1)

theorem inMonth_ex (n : Int) (h1 : 0 ≤ n) (h2 : n ≤ 73048) : ∃ y k, InMonth n y k := by
  have hy : ∀ j : Nat, n < NY (2000 + j) → ∃ y, 2000 ≤ y ∧ y < 2000 + (j : Int) ∧ NY y ≤ n ∧ n < NY (y + 1) := by
    intro j
    induction j with
    | zero => intro h; simp only [Int.natCast_zero, Int.add_zero, ny_2000] at h; omega
    | succ j ih =>
      intro h
      by_cases hj : n < NY (2000 + (j : Int))
      · obtain ⟨y, a, b, c, d⟩ := ih hj
        exact ⟨y, a, by omega, c, d⟩
      · have e : 2000 + (j : Int) + 1 = 2000 + ((j + 1 : Nat) : Int) := by omega
        exact ⟨2000 + (j : Int), by omega, by omega, by omega, by rw [e]; exact h⟩
  obtain ⟨y, a, b, c, d⟩ := hy 200 (by have : NY (2000 + ((200 : Nat) : Int)) = 73049 := ny_2200; omega)
  have hk : ∀ j : Nat, n - NY y < cum y j → ∃ k, k < j ∧ cum y k ≤ n - NY y ∧ n - NY y < cum y (k + 1) := by
    intro j
    induction j with
    | zero => intro h; simp only [cum] at h; omega
    | succ j ih =>
      intro h
      by_cases hj : n - NY y < cum y j
      · obtain ⟨k, p, q, r⟩ := ih hj
        exact ⟨k, by omega, q, r⟩
      · exact ⟨j, by omega, by omega, h⟩
  obtain ⟨k, p, q, r⟩ := hk 12 (by rw [cum_12 y a (by omega)]; omega)
  exact ⟨y, k, a, by omega, c, d, p, q, r⟩
end Go.Proofs.YtahfjhmgmpbmkacDoor
