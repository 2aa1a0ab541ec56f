/-
  Contracts of the reference's size, gcd, Check and New at this translation. Conditions: the arguments fit their kinds.
-/
import Derived.Test.YtjjaemobgfconaaDoorFr2
namespace Go.Proofs.YtjjaemobgfconaaDoor
open Go.RowKit
set_option linter.unusedVariables false

theorem rgcd_any (a b : Int) (w : World) (ha : 0 ≤ a) (ha' : a < 18446744073709551616) (hb : 0 ≤ b) (hb' : b < 18446744073709551616) :
    Calls Tryd.prog 46 #[.int .u64 a, .int .u64 b] w fun e w' => e = .returned (.int .u64 (gA a b : Int)) ∧ ∃ n, w' = w.drewN n := by
  have HG := hide (show gA a b = gA a b from rfl)
  obtain ⟨G, hG⟩ : ∃ G : Int, G = (gA a b : Int) := ⟨_, rfl⟩
  rw [← hG]
  have HH := hide hG
  clear hG HG
  go_enter Tryd.func46, Tryd.ntmps46
  go_wp2_with fail
  go_loopw [0, 1] (fun s0 s1 wr => ∃ x y : Int, s0 = .int .u64 x ∧ s1 = .int .u64 y ∧ 0 ≤ x ∧ x < 18446744073709551616 ∧ 0 ≤ y ∧ y < 18446744073709551616 ∧ Hid (gA x y = gA a b) ∧ ∃ n, wr = w.drewN n) (fun _ s1 _ => (intOf s1).toNat)
  case atStart => exact ⟨a, b, rfl, rfl, ha, ha', hb, hb', hide rfl, 0, rfl⟩
  case round =>
    obtain ⟨x, y, rfl, rfl, hx, hx', hy, hy', HX, n, rfl⟩ := hrel
    by_cases h0 : y = 0
    · subst h0
      have HR : Hid (G = x) := hide (by rw [HH.out, ← HX.out]; unfold gA; simp; omega)
      go_wp2_with fail
      go_ret
      exact ⟨ret_i HR.out.symm, n, rfl⟩
    · have e0 : (y == 0) = false := by simp; omega
      have hp : 0 < y := by omega
      have m1 : 0 ≤ x % y := Int.emod_nonneg _ (by omega)
      have m2 : x % y < y := Int.emod_lt_of_pos _ hp
      have HN : Hid (gA y (x % y) = gA a b) := hide (by rw [← HX.out, ← Int.tmod_eq_emod_of_nonneg hx]; exact gcd_step x y hx hy)
      go_wp2_with fail
      go_quiet (fail)
      go_wp2_with fail
      go_roundw
      case rel => exact ⟨y, x % y, rfl, rfl, hy, hy', m1, by omega, HN, n + _, by rw [World.drewN_drewN]⟩
      case measure => simp only [intOf]; omega

theorem size_any (x : Int) (w : World) (h1 : -9223372036854775808 ≤ x) (h2 : x ≤ 9223372036854775807) :
    Calls Tryd.prog 47 #[.int .i64 x] w fun e w' => e = .returned (.int .u64 (x.natAbs : Int)) ∧ w = w' := by
  by_cases h : x < 0
  · go_enter Tryd.func47, Tryd.ntmps47
    go_wp2
    go_ret
    exact ⟨ret_i (by omega), rfl⟩
  · go_enter Tryd.func47, Tryd.ntmps47
    go_wp2
    go_ret
    exact ⟨ret_i (by omega), rfl⟩

/-- What Check does to memory: one new block, and draws. -/
theorem rcheck_any (n d : Int) (w : World) (n1 : -9223372036854775808 ≤ n) (n2 : n ≤ 9223372036854775807) (d1 : -9223372036854775808 ≤ d) (d2 : d ≤ 9223372036854775807) :
    Calls Tryd.prog 35 #[.agg #[.int .i64 n, .int .i64 d]] w fun e w' => e = .returned (.int .i64 (ckE n d)) ∧ Below w.heap.size w w' := by
  by_cases r1 : d < 1
  · have hE := hide (show ckE n d = 2 by simp [ckE, rgB, r1])
    generalize ckE n d = E at *
    go_enter Tryd.func35, Tryd.ntmps35
    go_wp2_with fail
    go_ret
    exact ⟨ret_i hE.out.symm, (Below.refl _ _).alloc (Nat.le_refl _) _⟩
  · by_cases r2 : 1000000000 < d
    · have hE := hide (show ckE n d = 2 by simp [ckE, rgB, r2])
      generalize ckE n d = E at *
      go_enter Tryd.func35, Tryd.ntmps35
      go_wp2_with fail
      go_ret
      exact ⟨ret_i hE.out.symm, (Below.refl _ _).alloc (Nat.le_refl _) _⟩
    · by_cases r3 : n < -1000000000
      · have hE := hide (show ckE n d = 2 by simp [ckE, rgB, r3])
        generalize ckE n d = E at *
        go_enter Tryd.func35, Tryd.ntmps35
        go_wp2_with fail
        go_ret
        exact ⟨ret_i hE.out.symm, (Below.refl _ _).alloc (Nat.le_refl _) _⟩
      · by_cases r4 : 1000000000 < n
        · have hE := hide (show ckE n d = 2 by simp [ckE, rgB, r4])
          generalize ckE n d = E at *
          go_enter Tryd.func35, Tryd.ntmps35
          go_wp2_with fail
          go_ret
          exact ⟨ret_i hE.out.symm, (Below.refl _ _).alloc (Nat.le_refl _) _⟩
        · have hr : rgB n d = false := by simp [rgB]; omega
          have HA := hide (gA_abs n d)
          have hE := hide (show ckE n d = if gA n d = 1 then 0 else 3 by simp [ckE, hr])
          generalize ckE n d = E at *
          have G := fun w => hide (rgcd_any (n.natAbs : Int) (d.natAbs : Int) w (by omega) (by omega) (by omega) (by omega))
          rw [HA.out] at G
          have M1 := fun w => hide (size_any n w n1 n2)
          have ed : (d.natAbs : Int) = d := by omega
          rw [ed] at G
          clear ed
          have ga : 0 ≤ (gA n d : Int) := by omega
          obtain ⟨g, hg⟩ : ∃ g : Int, g = (gA n d : Int) := ⟨_, rfl⟩
          rw [← hg] at G
          have HG := hide hg
          have hE2 : Hid (E = if g = 1 then 0 else 3) := hide (by rw [hE.out, hg]; by_cases h : gA n d = 1 <;> simp [h] <;> omega)
          clear hg hr ga hE
          by_cases hg : g = 1
          · subst hg
            have hE3 : Hid (E = 0) := hide (by rw [hE2.out]; rfl)
            clear hE2
            go_enter Tryd.func35, Tryd.ntmps35
            go_wp2_with fail
            go_quiet (first | (go_at_call 47; exact quiet_left (M1 _).out) | (go_at_call 46; exact quiet_draw (G _).out))
            go_wp2_with fail
            go_ret
            exact ⟨ret_i hE3.out.symm, below_draw ((Below.refl _ _).alloc (Nat.le_refl _) _) _⟩
          · have e1 : (g == 1) = false := by simpa using hg
            have hE3 : Hid (E = 3) := hide (by rw [hE2.out, if_neg hg])
            clear hE2 hg
            go_enter Tryd.func35, Tryd.ntmps35
            go_wp2_with fail
            go_quiet (first | (go_at_call 47; exact quiet_left (M1 _).out) | (go_at_call 46; exact quiet_draw (G _).out))
            go_wp2_with fail
            go_ret
            exact ⟨ret_i hE3.out.symm, below_draw ((Below.refl _ _).alloc (Nat.le_refl _) _) _⟩
end Go.Proofs.YtjjaemobgfconaaDoor
