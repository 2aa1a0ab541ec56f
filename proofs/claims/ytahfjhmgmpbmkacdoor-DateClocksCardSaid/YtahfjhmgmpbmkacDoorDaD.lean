/-
  Contracts of date.hasForm and Parse at a text without the form.
-/
import Derived.Test.YtahfjhmgmpbmkacDoorDa9
namespace Go.Proofs.YtahfjhmgmpbmkacDoor
open Go.RowKit
set_option linter.unusedVariables false

theorem drewN_two (w : World) (n m : Nat) : ∃ k, (w.drewN n).drewN m = w.drewN k := ⟨n + m, by simp [World.drewN, Nat.add_assoc]⟩
theorem first_bad (p : Nat → Prop) (n : Nat) (h : ¬ ∀ j, j < n → p j) : ∃ j, j < n ∧ ¬ p j ∧ ∀ i, i < j → p i := by
  induction n with
  | zero => exact absurd (fun j hj => by omega) h
  | succ n ih =>
    by_cases hn : ∀ j, j < n → p j
    · refine ⟨n, by omega, fun hp => h fun j hj => ?_, hn⟩
      rcases Nat.lt_or_ge j n with a | a
      · exact hn j a
      · obtain rfl : j = n := by omega
        exact hp
    · obtain ⟨j, a, b, c⟩ := ih hn
      exact ⟨j, by omega, b, c⟩

set_option maxHeartbeats 4000000 in
set_option maxRecDepth 20000 in
theorem hf_no (s f : ByteArray) (w : World) (hl : f.size ≤ 100) (h : ¬ HasForm s f) (hm : s.size ≤ maxLen) : Calls Tryd.prog 50 #[.string s, .string f] w fun e w' => e = .returned (.bool false) ∧ ∃ n, w' = w.drewN n := by
  by_cases hs : s.size = f.size
  · obtain ⟨J, hJ, hbad, hgood⟩ := first_bad (fun j => suits (gB s j) (gB f j)) s.size (fun x => h ⟨hs, x⟩)
    have i1 := hide (idx s)
    have i2 := hide (idx f)
    have HH := hide hgood
    have HBad := hide hbad
    clear hgood hbad h
    go_enter Tryd.func50, Tryd.ntmps50
    go_wp2_with fail
    go_loopw [14] (fun i wr => ∃ k : Nat, k ≤ J ∧ i = .int .i64 k ∧ ∃ n, wr = w.drewN n) (fun i _ => s.size - (intOf i).toNat)
    case atStart => exact ⟨0, Nat.zero_le _, rfl, 0, rfl⟩
    case round =>
      obtain ⟨k, hk, rfl, n, rfl⟩ := hrel
      have hlt : k < s.size := by omega
      have j1 := i1.out k hlt
      have j2 := i2.out k (by omega)
      obtain ⟨b1, b2⟩ := gB_bd s k
      obtain ⟨b3, b4⟩ := gB_bd f k
      by_cases hkJ : k < J
      · have S := hide (HH.out k hkJ)
        have hk1 : k + 1 ≤ J := hkJ
        clear hkJ
        generalize gB s k = x at *
        generalize gB f k = y at *
        rcases S.out with ⟨rfl, h1, h2⟩ | ⟨h1, rfl⟩
        · clear S
          have d1 : decide (48 ≤ x) = true := decide_eq_true h1
          have d2 : decide (x ≤ 57) = true := decide_eq_true h2
          go_wp2_with fail
          go_quiet (fail)
          go_wp2_with fail
          go_roundw
          case rel => exact ⟨k + 1, hk1, by go_num, _, rfl⟩
          case measure => simp [intOf]; omega
        · clear S
          have e1 : decide (x = 48) = false := decide_eq_false h1
          by_cases d : 48 ≤ x
          · by_cases d' : x ≤ 57
            · go_wp2_with fail
              go_quiet (fail)
              go_wp2_with fail
              go_roundw
              case rel => exact ⟨k + 1, hk1, by go_num, _, rfl⟩
              case measure => simp [intOf]; omega
            · have d2 : decide (x ≤ 57) = false := decide_eq_false d'
              go_wp2_with fail
              go_quiet (fail)
              go_wp2_with fail
              go_roundw
              case rel => exact ⟨k + 1, hk1, by go_num, _, rfl⟩
              case measure => simp [intOf]; omega
          · have d2 : decide (48 ≤ x) = false := decide_eq_false d
            go_wp2_with fail
            go_quiet (fail)
            go_wp2_with fail
            go_roundw
            case rel => exact ⟨k + 1, hk1, by go_num, _, rfl⟩
            case measure => simp [intOf]; omega
      · obtain rfl : k = J := by omega
        have S := HBad.out
        clear HH HBad hkJ
        generalize gB s k = x at *
        generalize gB f k = y at *
        unfold suits at S
        by_cases hy : y = 48
        · subst hy
          have S2 : ¬ (48 ≤ x ∧ x ≤ 57) := fun q => S (.inl ⟨rfl, q.1, q.2⟩)
          clear S
          by_cases d : 48 ≤ x
          · have d2 : decide (x ≤ 57) = false := decide_eq_false (by omega)
            have d3 : ¬ x ≤ 57 := by omega
            clear S2
            go_wp2_with fail
            go_quiet (fail)
            go_wp2_with fail
            go_ret
            exact ⟨rfl, drewN_two w n _⟩
          · have d2 : decide (48 ≤ x) = false := decide_eq_false d
            clear S2
            go_wp2_with fail
            go_quiet (fail)
            go_wp2_with fail
            go_ret
            exact ⟨rfl, drewN_two w n _⟩
        · have hxy : ¬ x = y := fun q => S (.inr ⟨hy, q⟩)
          have e1 : decide (y = 48) = false := decide_eq_false hy
          have e2 : (x != y) = true := by simpa using hxy
          clear S
          by_cases d : 48 ≤ x
          · by_cases d' : x ≤ 57
            · go_wp2_with fail
              go_quiet (fail)
              go_wp2_with fail
              go_ret
              exact ⟨rfl, drewN_two w n _⟩
            · have d2 : decide (x ≤ 57) = false := decide_eq_false d'
              go_wp2_with fail
              go_quiet (fail)
              go_wp2_with fail
              go_ret
              exact ⟨rfl, drewN_two w n _⟩
          · have d2 : decide (48 ≤ x) = false := decide_eq_false d
            go_wp2_with fail
            go_quiet (fail)
            go_wp2_with fail
            go_ret
            exact ⟨rfl, drewN_two w n _⟩
  · clear h
    have hs2 : ¬ (s.size : Int) = f.size := by omega
    go_enter Tryd.func50, Tryd.ntmps50
    go_wp2_with fail
    go_ret
    exact ⟨rfl, 0, rfl⟩

theorem pa_no (s : ByteArray) (w : World) (h : ¬ HasForm s dform) (hm : s.size ≤ maxLen) :
    Calls Tryd.prog 36 #[.string s] w fun e w' => e = .returned (.tuple #[.int .i64 0, .int .i64 3]) ∧ Below w.heap.size w w' := by
  have hf := fun w => hide (hf_no s dform w (by decide) h hm)
  clear h hm
  go_enter Tryd.func36, Tryd.ntmps36
  go_wp2_with fail
  refine (hf _).out.mono ?_
  rintro e w' ⟨rfl, n, rfl⟩
  have HB := hide (below_drewN (Below.refl w.heap.size w) n)
  go_wp2_with fail
  go_ret2
  exact ⟨rfl, HB.out⟩
end Go.Proofs.YtahfjhmgmpbmkacDoor
