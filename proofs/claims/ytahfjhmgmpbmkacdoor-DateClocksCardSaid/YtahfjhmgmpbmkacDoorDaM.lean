/-
  Contracts at this translation: cmp.Compare, cmp.Or, CompareClock.
-/
import Derived.Test.YtahfjhmgmpbmkacDoorDaL
namespace Go.Proofs.YtahfjhmgmpbmkacDoor
open Go.RowKit
set_option linter.unusedVariables false

/-- -1, 0 or 1. -/
def cmpI (x y : Int) : Int := if x < y then -1 else if y < x then 1 else 0
def cmpC (a b c d : Int) : Int := if cmpI a c = 0 then cmpI b d else cmpI a c
theorem nan_any (x : Int) (w : World) : Calls Tryd.prog 60 #[.int .i64 x] w fun e w' => e = .returned (.bool false) ∧ w = w' := by
  go_enter Tryd.func60, Tryd.ntmps60
  go_wp2_with fail
  go_ret
  exact ⟨by simp, rfl⟩
theorem cmp_any (x y : Int) (w : World) : Calls Tryd.prog 56 #[.int .i64 x, .int .i64 y] w fun e w' => e = .returned (.int .i64 (cmpI x y)) ∧ w = w' := by
  have na := fun x w => hide (nan_any x w)
  unfold cmpI
  by_cases h : x < y
  · rw [if_pos h]
    go_enter Tryd.func56, Tryd.ntmps56
    go_wp2_with fail
    refine (na _ _).out.mono ?_
    rintro e w' ⟨rfl, rfl⟩
    go_wp2_with fail
    refine (na _ _).out.mono ?_
    rintro e w' ⟨rfl, rfl⟩
    go_wp2_with fail
    go_ret
    exact ⟨rfl, rfl⟩
  · rw [if_neg h]
    by_cases h2 : y < x
    · rw [if_pos h2]
      go_enter Tryd.func56, Tryd.ntmps56
      go_wp2_with fail
      refine (na _ _).out.mono ?_
      rintro e w' ⟨rfl, rfl⟩
      go_wp2_with fail
      refine (na _ _).out.mono ?_
      rintro e w' ⟨rfl, rfl⟩
      go_wp2_with fail
      go_ret
      exact ⟨rfl, rfl⟩
    · rw [if_neg h2]
      go_enter Tryd.func56, Tryd.ntmps56
      go_wp2_with fail
      refine (na _ _).out.mono ?_
      rintro e w' ⟨rfl, rfl⟩
      go_wp2_with fail
      refine (na _ _).out.mono ?_
      rintro e w' ⟨rfl, rfl⟩
      go_wp2_with fail
      go_ret
      exact ⟨rfl, rfl⟩
theorem or_any (g : Nat) (p q : Int) (w : World) (c0 : w.cell? ⟨g, 0, none⟩ = some (.int .i64 p)) (c1 : w.cell? ⟨g, 1, none⟩ = some (.int .i64 q)) :
    Calls Tryd.prog 55 #[.slice (some ⟨g, 0, none⟩) 2 2] w fun e w' => e = .returned (.int .i64 (if p = 0 then q else p)) ∧ w = w' := by
  by_cases hp : p = 0
  · subst hp
    rw [if_pos rfl]
    by_cases hq : q = 0
    · subst hq
      go_enter Tryd.func55, Tryd.ntmps55
      go_wp2_with fail
      go_loop [8] (fun i => i = .int .i64 0 ∨ i = .int .i64 1 ∨ i = .int .i64 2) (fun i => 2 - (intOf i).toNat)
      case atStart => exact .inl rfl
      case round =>
        rcases hrel with rfl | rfl | rfl
        · go_wp2_with fail
          go_round
          case rel => exact .inr (.inl rfl)
          case measure => simp [intOf]
        · go_wp2_with fail
          go_round
          case rel => exact .inr (.inr rfl)
          case measure => simp [intOf]
        · go_wp2_with fail
          go_ret
          exact ⟨rfl, rfl⟩
    · have hq2 : (q != 0) = true := by simpa using hq
      go_enter Tryd.func55, Tryd.ntmps55
      go_wp2_with fail
      go_loop [8] (fun i => i = .int .i64 0 ∨ i = .int .i64 1) (fun i => 2 - (intOf i).toNat)
      case atStart => exact .inl rfl
      case round =>
        rcases hrel with rfl | rfl
        · go_wp2_with fail
          go_round
          case rel => exact .inr rfl
          case measure => simp [intOf]
        · go_wp2_with fail
          go_ret
          exact ⟨rfl, rfl⟩
  · rw [if_neg hp]
    have hp2 : (p != 0) = true := by simpa using hp
    go_enter Tryd.func55, Tryd.ntmps55
    go_wp2_with fail
    go_loop [8] (fun i => i = .int .i64 0) (fun i => 2 - (intOf i).toNat)
    case atStart => exact rfl
    case round =>
      obtain rfl := hrel
      go_wp2_with fail
      go_ret
      exact ⟨rfl, rfl⟩
end Go.Proofs.YtahfjhmgmpbmkacDoor
