/-
  The interest.
-/
import Derived.Test.YtjjaemobgfconaaDoorE3
import Derived.Test.YtjjaemobgfconaaDoorDiv
import Derived.WalkKit
import Derived.Deep.QuietTactic
import Derived.BigQuiet
import Derived.Laws.EntriesVeiled
import Derived.Lib.MinMax
import Derived.Deep.Light
namespace Go.Proofs.YtjjaemobgfconaaDoor
open Go.RowKit
set_option linter.unusedVariables false
set_option linter.unusedSimpArgs false
set_option linter.unnecessarySimpa false

theorem mul_pos (a b : Int) (w : World) (a0 : 0 ≤ a) (a1 : a ≤ 1000000000000000) (b0 : 0 ≤ b) (b1 : b ≤ 1000000000000000) :
    Calls Tryd.prog 40 #[.int .u64 a, .int .u64 b] w fun e w' => e = .returned (.tuple #[.int .u64 (a * b / 18446744073709551616), .int .u64 (a * b % 18446744073709551616)]) ∧ w = w' := by
  have h := mul_any a b (by unfold okA; omega) (by unfold okA; omega) w
  unfold absP at h
  have e1 : (a.natAbs : Int) = a := by omega
  have e2 : (b.natAbs : Int) = b := by omega
  rw [e1, e2] at h
  exact h
set_option maxHeartbeats 4000000 in
set_option maxRecDepth 20000 in
theorem int_any (t : Ag) (day k : Int) (w : World) (hF : Fit t) (hk : day - t.op = k) (k1 : 0 ≤ k) (k2 : k ≤ 400) :
    Calls Tryd.prog 28 #[.agg #[.string t.rf, .string t.se, .string t.bu, .string t.sn, .int .i64 t.q, .int .i64 t.c, .int .i64 t.n, .int .i64 t.d, .int .i64 t.op, .int .i64 t.cl], .int .i64 day] w fun e w' => e = .returned (.int .i64 (iV t k)) ∧ Below w.heap.size w w' := by
  obtain ⟨p1, p2, p3⟩ := hF.prod k1 k2
  obtain ⟨q1, q2, r1, r2, x1⟩ := hF.bds k1 k2
  obtain ⟨c1, c2, n1, n2, d1, d2⟩ := hF
  have hU := hide (show iV t k = iQ t k + iU t k from rfl)
  have hiU := hide (show iU t k = if t.d * 360 < 2 * iR t k ∨ (2 * iR t k = t.d * 360 ∧ iQ t k % 2 = 1) then 1 else 0 from rfl)
  have eQ : iQ t k = t.c * (t.n * k) / (t.d * 360) := rfl
  have eR : iR t k = t.c * (t.n * k) % (t.d * 360) := rfl
  obtain ⟨P, hP⟩ : ∃ P, t.n * k = P := ⟨_, rfl⟩
  obtain ⟨D, hD⟩ : ∃ D, t.d * 360 = D := ⟨_, rfl⟩
  rw [hP] at p1 p2 eQ eR x1
  rw [hD] at eQ eR hiU r2
  have D1 : 0 < D := by omega
  have D2 : D ≤ 360000000000 := by omega
  have M := fun w => hide (mul_pos t.c P w (by omega) c2 p1 (by omega))
  have hx : t.c * P ≤ 1000000000000000000000000000 := by
    have h1 : t.c * P ≤ t.c * 400000000000 := Int.mul_le_mul_of_nonneg_left p2 (by omega)
    have h2 : t.c * 400000000000 ≤ 1000000000000000 * 400000000000 := by omega
    omega
  have hh : t.c * P / 18446744073709551616 < D := by
    refine Classical.byContradiction fun h => ?_
    have h1 : D * 18446744073709551616 ≤ t.c * P := by omega
    have h2 : 18446744073709551616 ≤ t.c * P / D := (Int.le_ediv_iff_mul_le D1).2 (by rw [Int.mul_comm]; exact h1)
    omega
  have C := fun w => hide ((div_any (t.c * P / 18446744073709551616) (t.c * P % 18446744073709551616) D (by omega) hh (by omega) (by omega) (by omega)).at w)
  rw [← eQ, ← eR] at C
  have HP := hide p3
  have HR := hide (one_alloc w (Obj.cells #[.string t.rf, .string t.se, .string t.bu, .string t.sn, .int .i64 t.q, .int .i64 t.c, .int .i64 t.n, .int .i64 t.d, .int .i64 t.op, .int .i64 t.cl] 28))
  obtain ⟨_, c0, c1, c2, c3, c4, c5, c6, c7, c8, c9⟩ := RB.new t w 28
  have y1 : 0 ≤ t.c * P / 18446744073709551616 := by omega
  have y2 : t.c * P / 18446744073709551616 < 18446744073709551616 := by omega
  have y3 : 0 ≤ t.c * P % 18446744073709551616 := by omega
  have y4 : t.c * P % 18446744073709551616 < 18446744073709551616 := by omega
  generalize t.c * P / 18446744073709551616 = H at *
  generalize t.c * P % 18446744073709551616 = L at *
  rw [hU.out]
  generalize iQ t k = Q at *
  generalize iR t k = R at *
  clear eQ eR x1 hx hh hU p3
  have cv : ∀ (x : Int), 0 ≤ x → x ≤ 9223372036854775807 → x % 18446744073709551616 = x := fun x h0 h1 => by omega
  by_cases a1 : D < 2 * R
  · have e : iU t k = 1 := by rw [hiU.out, if_pos (.inl a1)]
    rw [e]
    clear hiU e
    go_enter Tryd.func28, Tryd.ntmps28
    go_wp2_with fail
    refine (M _).out.mono ?_
    rintro e w' ⟨rfl, rfl⟩
    go_wp2_with fail
    refine (C _).out.mono ?_
    rintro e w' ⟨rfl, n, rfl⟩
    go_wp2_with fail
    go_ret
    exact ⟨ret_i (by omega), below_drewN HR.out _⟩
  · by_cases a2 : 2 * R = D
    · have a2' : (2 * R == D) = true := by simpa using a2
      have HA2 := hide a2
      by_cases a3 : Q % 2 = 1
      · have e : iU t k = 1 := by rw [hiU.out, if_pos (.inr ⟨a2, a3⟩)]
        have a3' : (Q % 2 == 1) = true := by simpa using a3
        rw [e]
        clear hiU e a2 HA2
        go_enter Tryd.func28, Tryd.ntmps28
        go_wp2_with fail
        refine (M _).out.mono ?_
        rintro e w' ⟨rfl, rfl⟩
        go_wp2_with fail
        refine (C _).out.mono ?_
        rintro e w' ⟨rfl, n, rfl⟩
        go_wp2_with fail
        go_ret
        exact ⟨ret_i (by omega), below_drewN HR.out _⟩
      · have e : iU t k = 0 := by rw [hiU.out, if_neg (by rintro (h | ⟨_, h⟩); exact a1 h; exact a3 h)]
        have a3' : (Q % 2 == 1) = false := by simpa using a3
        rw [e]
        clear hiU e a2 HA2
        go_enter Tryd.func28, Tryd.ntmps28
        go_wp2_with fail
        refine (M _).out.mono ?_
        rintro e w' ⟨rfl, rfl⟩
        go_wp2_with fail
        refine (C _).out.mono ?_
        rintro e w' ⟨rfl, n, rfl⟩
        go_wp2_with fail
        go_ret
        exact ⟨ret_i (by omega), below_drewN HR.out _⟩
    · have a2' : (2 * R == D) = false := by simpa using a2
      have e : iU t k = 0 := by rw [hiU.out, if_neg (by rintro (h | ⟨h, _⟩); exact a1 h; exact a2 h)]
      rw [e]
      clear hiU e a2
      go_enter Tryd.func28, Tryd.ntmps28
      go_wp2_with fail
      refine (M _).out.mono ?_
      rintro e w' ⟨rfl, rfl⟩
      go_wp2_with fail
      refine (C _).out.mono ?_
      rintro e w' ⟨rfl, n, rfl⟩
      go_wp2_with fail
      go_ret
      exact ⟨ret_i (by omega), below_drewN HR.out _⟩

end Go.Proofs.YtjjaemobgfconaaDoor
