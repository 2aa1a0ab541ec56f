/-
  Contracts of the reference's shape and number at this translation.
-/
import Derived.Test.YtahfjhmgmpbmkacDoorDaD
namespace Go.Proofs.YtahfjhmgmpbmkacDoor
open Go.RowKit
set_option linter.unusedVariables false

theorem rnum_any (s : ByteArray) (L : Nat) (w : World) (hL : s.size = L) (h4 : L ≤ 4) (hd : ∀ j, j < L → 48 ≤ gB s (0 + j) ∧ gB s (0 + j) ≤ 57) :
    Calls Tryd.prog 54 #[.string s] w fun e w' => e = .returned (.int .i64 (nv s 0 L)) ∧ w = w' := by
  have i1 := hide (idx s)
  have NB := hide (fun k h => nv_bd s 0 k h)
  have HD := hide hd
  clear hd
  go_enter Tryd.func54, Tryd.ntmps54
  go_wp2_with fail
  go_loop [3, 4] (fun n i => ∃ k : Nat, k ≤ L ∧ i = .int .i64 k ∧ n = .int .i64 (nv s 0 k)) (fun _n i => L - (intOf i).toNat)
  case atStart => exact ⟨0, Nat.zero_le _, rfl, rfl⟩
  case round =>
    obtain ⟨k, hk, rfl, rfl⟩ := hrel
    by_cases hlt : k < L
    · have hc := i1.out k (by omega)
      obtain ⟨d1, d2⟩ := HD.out k hlt
      rw [Nat.zero_add] at d1 d2
      obtain ⟨n1, n2⟩ := NB.out k (by omega) (fun j hj => HD.out j (by omega))
      obtain ⟨n3, n4⟩ := NB.out (k + 1) (by omega) (fun j hj => HD.out j (by omega))
      have hn : nv s 0 (k + 1) = nv s 0 k * 10 + (gB s k - 48) := by show nv s 0 k * 10 + (gB s (0 + k) - 48) = _; rw [Nat.zero_add]
      have e1 : IntKind.u8.wrap (gB s k - 48) = gB s k - 48 := by simp [IntKind.wrap, IntKind.bits, IntKind.signed]; omega
      have hlt1 : k + 1 ≤ L := hlt
      generalize hq : nv s 0 (k + 1) = N' at *
      have HQ := hide hq
      clear hq
      have HN := hide hn
      have hn2 : 10 * nv s 0 k + (gB s k - 48) = N' := by omega
      have HN2 := hide hn2
      clear hn hn2
      generalize gB s k = x at *
      generalize nv s 0 k = N at *
      go_wp2_with fail
      go_round
      case rel => exact ⟨k + 1, hlt1, by go_num, by rw [HQ.out, ← HN2.out]⟩
      case measure => simp [intOf]; omega
    · obtain rfl : k = L := by omega
      go_wp2_with fail
      go_ret
      exact ⟨rfl, rfl⟩

set_option maxRecDepth 20000 in
set_option maxHeartbeats 2000000 in
theorem rsh_yes (s f : ByteArray) (w : World) (hl : f.size ≤ 100) (h : HasForm s f) : Calls Tryd.prog 53 #[.string s, .string f] w fun e w' => e = .returned (.bool true) ∧ ∃ n, w' = w.drewN n := by
  obtain ⟨hs, H⟩ := h
  have i1 := hide (idx s)
  have i2 := hide (idx f)
  have HH := hide H
  clear H
  go_enter Tryd.func53, Tryd.ntmps53
  go_wp2_with fail
  go_loopw [5] (fun i wr => ∃ k : Nat, k ≤ s.size ∧ i = .int .i64 k ∧ ∃ n, wr = w.drewN n) (fun i _ => s.size - (intOf i).toNat)
  case atStart => exact ⟨0, Nat.zero_le _, rfl, 0, rfl⟩
  case round =>
    obtain ⟨k, hk, rfl, n, rfl⟩ := hrel
    by_cases hlt : k < s.size
    · have j1 := i1.out k hlt
      have j2 := i2.out k (by omega)
      have S := hide (HH.out k hlt)
      obtain ⟨b1, b2⟩ := gB_bd s k
      obtain ⟨b3, b4⟩ := gB_bd f k
      generalize gB s k = x at *
      generalize gB f k = y at *
      rcases S.out with ⟨rfl, h1, h2⟩ | ⟨h1, rfl⟩
      · clear S
        have d1 : decide (x < 48) = false := decide_eq_false (by omega)
        have d2 : decide (57 < x) = false := decide_eq_false (by omega)
        go_wp2_with fail
        go_quiet (fail)
        go_wp2_with fail
        go_roundw
        case rel => exact ⟨k + 1, by omega, by go_num, _, rfl⟩
        case measure => simp [intOf]; omega
      · clear S
        have e1 : decide (x = 48) = false := decide_eq_false h1
        go_wp2_with fail
        go_quiet (fail)
        go_wp2_with fail
        go_roundw
        case rel => exact ⟨k + 1, by omega, by go_num, _, rfl⟩
        case measure => simp [intOf]; omega
    · obtain rfl : k = s.size := by omega
      go_wp2_with fail
      go_ret
      exact ⟨rfl, _, rfl⟩

set_option maxHeartbeats 4000000 in
set_option maxRecDepth 20000 in
theorem rsh_no (s f : ByteArray) (w : World) (hl : f.size ≤ 100) (h : ¬ HasForm s f) (hm : s.size ≤ maxLen) : Calls Tryd.prog 53 #[.string s, .string f] w fun e w' => e = .returned (.bool false) ∧ ∃ n, w' = w.drewN n := by
  by_cases hs : s.size = f.size
  · obtain ⟨J, hJ, hbad, hgood⟩ := first_bad (fun j => suits (gB s j) (gB f j)) s.size (fun x => h ⟨hs, x⟩)
    have i1 := hide (idx s)
    have i2 := hide (idx f)
    have HH := hide hgood
    have HBad := hide hbad
    clear hgood hbad h
    go_enter Tryd.func53, Tryd.ntmps53
    go_wp2_with fail
    go_loopw [5] (fun i wr => ∃ k : Nat, k ≤ J ∧ i = .int .i64 k ∧ ∃ n, wr = w.drewN n) (fun i _ => s.size - (intOf i).toNat)
    case atStart => exact ⟨0, Nat.zero_le _, rfl, 0, rfl⟩
    case round =>
      obtain ⟨k, hk, rfl, n, rfl⟩ := hrel
      have hlt : k < s.size := by omega
      have j1 := i1.out k hlt
      have j2 := i2.out k (by omega)
      obtain ⟨b1, b2⟩ := gB_bd s k
      obtain ⟨b3, b4⟩ := gB_bd f k
      by_cases hkJ : k < J
      · have S := hide (HH.out k hkJ)
        have hk1 : k + 1 ≤ J := hkJ
        clear hkJ
        generalize gB s k = x at *
        generalize gB f k = y at *
        rcases S.out with ⟨rfl, h1, h2⟩ | ⟨h1, rfl⟩
        · clear S
          have d1 : decide (x < 48) = false := decide_eq_false (by omega)
          have d2 : decide (57 < x) = false := decide_eq_false (by omega)
          go_wp2_with fail
          go_quiet (fail)
          go_wp2_with fail
          go_roundw
          case rel => exact ⟨k + 1, hk1, by go_num, _, rfl⟩
          case measure => simp [intOf]; omega
        · clear S
          have e1 : decide (x = 48) = false := decide_eq_false h1
          go_wp2_with fail
          go_quiet (fail)
          go_wp2_with fail
          go_roundw
          case rel => exact ⟨k + 1, hk1, by go_num, _, rfl⟩
          case measure => simp [intOf]; omega
      · obtain rfl : k = J := by omega
        have S := HBad.out
        clear HH HBad hkJ
        generalize gB s k = x at *
        generalize gB f k = y at *
        unfold suits at S
        by_cases hy : y = 48
        · subst hy
          have S2 : ¬ (48 ≤ x ∧ x ≤ 57) := fun q => S (.inl ⟨rfl, q.1, q.2⟩)
          clear S
          by_cases d : x < 48
          · clear S2
            go_wp2_with fail
            go_quiet (fail)
            go_wp2_with fail
            go_ret
            exact ⟨rfl, drewN_two w n _⟩
          · have d1 : decide (x < 48) = false := decide_eq_false d
            have d3 : 57 < x := by omega
            clear S2
            go_wp2_with fail
            go_quiet (fail)
            go_wp2_with fail
            go_ret
            exact ⟨rfl, drewN_two w n _⟩
        · have hxy : ¬ x = y := fun q => S (.inr ⟨hy, q⟩)
          have e1 : decide (y = 48) = false := decide_eq_false hy
          have e2 : (x != y) = true := by simpa using hxy
          clear S
          go_wp2_with fail
          go_quiet (fail)
          go_wp2_with fail
          go_ret
          exact ⟨rfl, drewN_two w n _⟩
  · clear h
    have hs2 : ¬ (s.size : Int) = f.size := by omega
    go_enter Tryd.func53, Tryd.ntmps53
    go_wp2_with fail
    go_ret
    exact ⟨rfl, 0, rfl⟩
end Go.Proofs.YtahfjhmgmpbmkacDoor
