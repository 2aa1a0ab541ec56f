/-
  Contract of the reference's From at this translation, at a date with a year from 2000 to 2199 and a month from 1 to 12.
-/
import Derived.Test.YtahfjhmgmpbmkacDoorDaC
namespace Go.Proofs.YtahfjhmgmpbmkacDoor
open Go.RowKit
set_option linter.unusedVariables false

set_option maxRecDepth 20000 in
theorem rfrom_in (y d : Int) (k : Nat) (w : World) (y1 : 2000 ≤ y) (y2 : y ≤ 2199) (hk : k < 12) (d1 : 1 ≤ d) (d2 : d ≤ 31) :
    Calls Tryd.prog 23 #[.agg #[.int .i64 y, .int .i64 ((k : Int) + 1), .int .i64 d]] w fun e w' => e = .returned (.int .i64 (NY y + cum y k + d - 1)) ∧ Below w.heap.size w w' := by
  have lp := fun w y => hide (rleap_any y w)
  have ln := fun w y m => hide (rlen_any y m w)
  have HBl := hide ((Below.refl w.heap.size w).alloc (Nat.le_refl _) (.cells #[.int .i64 y, .int .i64 ((k : Int) + 1), .int .i64 d] 32))
  have hby := ny_bd y (by omega) (by omega)
  go_enter Tryd.func23, Tryd.ntmps23
  go_wp2_with fail
  go_loop [3, 4] (fun n Y => ∃ X : Int, 2000 ≤ X ∧ X ≤ y ∧ Y = .int .i64 X ∧ n = .int .i64 (NY X)) (fun _n Y => (y - intOf Y).toNat)
  case atStart => exact ⟨2000, by omega, y1, rfl, by rw [ny_2000]⟩
  case round =>
    obtain ⟨X, x1, x2, rfl, rfl⟩ := hrel
    by_cases hlt : X < y
    · have LX := leap_01 X
      have bX := ny_bd X (by omega) (by omega)
      have bX1 := ny_bd (X + 1) (by omega) (by omega)
      have HL := hide LX
      clear LX
      generalize NY X = A at *
      cases hb : leapB X
      · have e1 : NY (X + 1) = A + 365 := by have := HL.out; rw [hb] at this; simpa using this
        have E1 := hide e1
        clear e1
        go_wp2_with fail
        refine (lp _ _).out.mono ?_
        rintro e w' ⟨rfl, rfl⟩
        rw [hb]
        go_wp2_with fail
        go_round
        case rel => exact ⟨X + 1, by omega, by omega, by go_num, by rw [E1.out]⟩
        case measure => simp [intOf]; omega
      · have e1 : NY (X + 1) = A + 365 + 1 := by have := HL.out; rw [hb] at this; simpa using this
        have E1 := hide e1
        clear e1
        go_wp2_with fail
        refine (lp _ _).out.mono ?_
        rintro e w' ⟨rfl, rfl⟩
        rw [hb]
        go_wp2_with fail
        go_round
        case rel => exact ⟨X + 1, by omega, by omega, by go_num, by rw [E1.out]⟩
        case measure => simp [intOf]; omega
    · obtain rfl : X = y := by omega
      go_wp2_with fail
      go_loop [3, 5] (fun n m => ∃ j : Nat, j ≤ k ∧ m = .int .i64 ((j : Int) + 1) ∧ n = .int .i64 (NY X + cum X j)) (fun _n m => ((k : Int) + 1 - intOf m).toNat)
      case atStart => exact ⟨0, Nat.zero_le _, rfl, by simp [cum]⟩
      case round =>
        obtain ⟨j, hj, rfl, rfl⟩ := hrel
        have e1 : cum X (j + 1) = cum X j + dim X ((j : Int) + 1) := rfl
        have e3 := dim_bd X ((j : Int) + 1)
        have e4 := cum_bd X j
        by_cases hlt2 : j < k
        · have hj2 : (j : Int) < k := by omega
          have E1 := hide e1
          clear e1
          generalize hD : dim X ((j : Int) + 1) = Dj at *
          have HD := hide hD
          clear hD
          generalize hC : cum X j = Cj at *
          clear hC
          go_wp2_with fail
          refine (ln _ _ _).out.mono ?_
          rintro e w' ⟨rfl, rfl⟩
          rw [HD.out]
          go_wp2_with fail
          go_round
          case rel => exact ⟨j + 1, hlt2, by go_num, by rw [E1.out]; go_num⟩
          case measure => simp [intOf]; omega
        · obtain rfl : j = k := by omega
          go_wp2_with fail
          go_ret
          exact ⟨by go_num, HBl.out⟩
end Go.Proofs.YtahfjhmgmpbmkacDoor
