/-
  The tables of the row; contracts of the reference's Leap and Length at this translation.
-/
import Derived.Test.YtahfjhmgmpbmkacDoorDaB
import Derived.Test.YtahfjhmgmpbmkacDoorRows
import Derived.Lib.LaidTab
namespace Go.Proofs.YtahfjhmgmpbmkacDoor
open Go.RowKit
set_option linter.unusedVariables false

/-- The variables that the rows list. -/
def laid : List (String × DataW Unit) := [("math/bits.deBruijn32tab", Rows.laid_math_bits_deBruijn32tab), ("math/bits.deBruijn64tab", Rows.laid_math_bits_deBruijn64tab), ("internal/strconv.uint64pow10", Rows.laid_internal_strconv_uint64pow10), ("giro/date.monthLengths", Rows.laid_giro_date_monthLengths)]

theorem tab_of_vars {P : Program} {W : World} {name : String} {k : IntKind} {zs : List Int} {rest : List (String × DataW Unit)} {g : Nat} {t e : TypeId} {n : Nat} {ps : List MemPlace}
    (hg : P.globalNamed name = some g) (hty : (P.globals[g]?).map (·.type) = some t) (ht : P.underlying t = some (.array n e)) (he : P.underlying e = some (.int k)) (hce : P.cellsOf e = 1) (hct : P.cellsOf t = n)
    (h : DataW.LaidVars P W ((name, Lib.tabData k zs) :: rest) ps) : Lib.TabIs P W name k zs := by
  obtain ⟨g', t', cs, fuel, p, q, hg', ht', hvar, hd, _, _⟩ := h
  obtain rfl := Option.some.inj (hg.symm.trans hg')
  obtain rfl := Option.some.inj (hty.symm.trans ht')
  unfold Lib.TabIs
  rw [hvar, ← Lib.cells_of_tab ht he hce hct hd]
theorem vars_tail {P : Program} {W : World} {x : String × DataW Unit} {rest : List (String × DataW Unit)} {ps : List MemPlace}
    (h : DataW.LaidVars P W (x :: rest) ps) : ∃ q, DataW.LaidVars P W rest q := by
  obtain ⟨_, _, _, _, _, q, _, _, _, _, h', _⟩ := h
  exact ⟨q, h'⟩

theorem tabs_of {w : World} (hL : laidMetH Tryd.prog laid w) : Tabs w := by
  have h : laidMet Tryd.prog laid w := hL
  obtain ⟨ps, h0, _⟩ := h
  obtain ⟨p1, h1⟩ := vars_tail h0
  obtain ⟨p2, h2⟩ := vars_tail h1
  obtain ⟨p3, h3⟩ := vars_tail h2
  have g2 : Tryd.prog.globalNamed "math/bits.deBruijn64tab" = some 3 := by kernel_rfl
  have t2 := tab_of_vars (k := .u8) (zs := [0, 1, 56, 2, 57, 49, 28, 3, 61, 58, 42, 50, 38, 29, 17, 4, 62, 47, 59, 36, 45, 43, 51, 22, 53, 39, 33, 30, 24, 18, 12, 5, 63, 55, 48, 27, 60, 41, 37, 16, 46, 35, 44, 21, 52, 32, 23, 11, 54, 26, 40, 15, 34, 20, 31, 10, 25, 14, 19, 9, 13, 8, 7, 6]) g2 (t := 87) (by kernel_rfl) Tryd.underlying87 Tryd.underlying5 (by kernel_rfl) (by kernel_rfl) h1
  have t3 := tab_of_vars (k := .u64) (zs := Lib.pow10Tab) gPows (t := 80) (by kernel_rfl) Tryd.underlying80 Tryd.underlying65 (by kernel_rfl) (by kernel_rfl) h2
  have t4 := tab_of_vars (k := .i64) (zs := monthTab) gMonths (t := 66) (by kernel_rfl) Tryd.underlying66 Tryd.underlying3 (by kernel_rfl) (by kernel_rfl) h3
  exact ⟨t4, t3, World.block_lt_of_cell? w ⟨3, 0, none⟩ (t2.cell g2 0 (by decide))⟩

theorem rleap_any (y : Int) (w : World) : Calls Tryd.prog 25 #[.int .i64 y] w fun e w' => e = .returned (.bool (leapB y)) ∧ w = w' := by
  have a1 := tmod_iff y 4
  have a2 := tmod_ne y 100
  have a3 := tmod_iff y 400
  by_cases h4 : y % 4 = 0
  · skip
    by_cases h100 : y % 100 = 0
    · skip
      by_cases h400 : y % 400 = 0
      · skip
        have e : leapB y = true := by unfold leapB; simp [h4, h100, h400]
        rw [e]
        simp only [h4, h100, h400, decide_true, Bool.not_true] at a1 a2 a3
        have b1 : (y % 4 == 0) = true := by simpa using h4
        have b2 : (y % 100 != 0) = false := by simpa using h100
        have b3 : (y % 400 == 0) = true := by simpa using h400
        clear h4 h100 h400 e
        go_enter Tryd.func25, Tryd.ntmps25
        go_wp2
        go_ret
        exact ⟨rfl, rfl⟩
      · skip
        have e : leapB y = false := by unfold leapB; simp [h4, h100, h400]
        rw [e]
        simp only [h4, h100, h400, decide_true, decide_false, Bool.not_true] at a1 a2 a3
        have b1 : (y % 4 == 0) = true := by simpa using h4
        have b2 : (y % 100 != 0) = false := by simpa using h100
        have b3 : (y % 400 == 0) = false := by simpa using h400
        clear h4 h100 h400 e
        go_enter Tryd.func25, Tryd.ntmps25
        go_wp2
        go_ret
        exact ⟨rfl, rfl⟩
    · skip
      by_cases h400 : y % 400 = 0
      · skip
        omega
      · skip
        have e : leapB y = true := by unfold leapB; simp [h4, h100, h400]
        rw [e]
        simp only [h4, h100, h400, decide_true, decide_false, Bool.not_false] at a1 a2 a3
        have b1 : (y % 4 == 0) = true := by simpa using h4
        have b2 : (y % 100 != 0) = true := by simpa using h100
        have b3 : (y % 400 == 0) = false := by simpa using h400
        clear h4 h100 h400 e
        go_enter Tryd.func25, Tryd.ntmps25
        go_wp2
        go_ret
        exact ⟨rfl, rfl⟩
  · skip
    by_cases h100 : y % 100 = 0
    · skip
      omega
    · skip
      by_cases h400 : y % 400 = 0
      · skip
        omega
      · skip
        have e : leapB y = false := by unfold leapB; simp [h4, h100, h400]
        rw [e]
        simp only [h4, h100, h400, decide_false, Bool.not_false] at a1 a2 a3
        have b1 : (y % 4 == 0) = false := by simpa using h4
        have b2 : (y % 100 != 0) = true := by simpa using h100
        have b3 : (y % 400 == 0) = false := by simpa using h400
        clear h4 h100 h400 e
        go_enter Tryd.func25, Tryd.ntmps25
        go_wp2
        go_ret
        exact ⟨rfl, rfl⟩


theorem rlen_any (y m : Int) (w : World) : Calls Tryd.prog 27 #[.int .i64 y, .int .i64 m] w fun e w' => e = .returned (.int .i64 (dim y m)) ∧ w = w' := by
  by_cases h : y < 2000 ∨ 2199 < y ∨ m < 1 ∨ 12 < m
  · have e : dim y m = 0 := by unfold dim; rw [if_pos h]
    rw [e]
    clear e
    by_cases h1 : y < 2000
    · clear h
      go_enter Tryd.func27, Tryd.ntmps27
      go_wp2
      go_ret
      exact ⟨rfl, rfl⟩
    · by_cases h2 : 2199 < y
      · clear h
        go_enter Tryd.func27, Tryd.ntmps27
        go_wp2
        go_ret
        exact ⟨rfl, rfl⟩
      · by_cases h3 : m < 1
        · clear h
          go_enter Tryd.func27, Tryd.ntmps27
          go_wp2
          go_ret
          exact ⟨rfl, rfl⟩
        · have h4 : 12 < m := by omega
          clear h
          go_enter Tryd.func27, Tryd.ntmps27
          go_wp2
          go_ret
          exact ⟨rfl, rfl⟩
  · have l := fun w => hide (rleap_any y w)
    have e0 : dim y m = if m = 2 ∧ leapB y = true then 29 else monthTab.getD (m - 1).toNat 0 := by unfold dim; rw [if_neg h]
    rw [e0]
    have y1 : 2000 ≤ y := by omega
    have y2 : y ≤ 2199 := by omega
    have hm : m = 1 ∨ m = 2 ∨ m = 3 ∨ m = 4 ∨ m = 5 ∨ m = 6 ∨ m = 7 ∨ m = 8 ∨ m = 9 ∨ m = 10 ∨ m = 11 ∨ m = 12 := by omega
    clear h e0
    rcases hm with rfl | rfl | rfl | rfl | rfl | rfl | rfl | rfl | rfl | rfl | rfl | rfl
    case inr.inl =>
      generalize leapB y = b at *
      go_enter Tryd.func27, Tryd.ntmps27
      go_wp2_with fail
      refine (l _).out.mono ?_
      rintro e w' ⟨rfl, rfl⟩
      cases b
      · go_wp2_with fail
        go_ret
        exact ⟨rfl, rfl⟩
      · go_wp2_with fail
        go_ret
        exact ⟨rfl, rfl⟩
    all_goals
      go_enter Tryd.func27, Tryd.ntmps27
      go_wp2_with fail
      go_ret
      exact ⟨rfl, rfl⟩
end Go.Proofs.YtahfjhmgmpbmkacDoor
