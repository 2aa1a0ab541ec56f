/-
  The interest of the reference.
-/
import Derived.Test.YtjjaemobgfconaaDoorE9
import Derived.Test.YtjjaemobgfconaaDoorQuo
import Derived.WalkKit
import Derived.Deep.QuietTactic
import Derived.BigQuiet
import Derived.Laws.EntriesVeiled
import Derived.Lib.MinMax
import Derived.Deep.Light
namespace Go.Proofs.YtjjaemobgfconaaDoor
open Go.RowKit
set_option linter.unusedVariables false
set_option linter.unusedSimpArgs false
set_option linter.unnecessarySimpa false

set_option maxHeartbeats 4000000 in
set_option maxRecDepth 20000 in
theorem rint_any (t : Ag) (k : Int) (w : World) (hF : Fit t) (k1 : 0 ≤ k) (k2 : k ≤ 400) :
    Calls Tryd.prog 29 #[.int .i64 t.c, .agg #[.int .i64 t.n, .int .i64 t.d], .int .i64 k] w fun e w' => e = .returned (.tuple #[.int .i64 (iV t k), .bool (decide (iV t k ≤ 1000000000000000))]) ∧ Below w.heap.size w w' := by
  obtain ⟨p1, p2, p3⟩ := hF.prod k1 k2
  obtain ⟨q1, q2, r1, r2, x1⟩ := hF.bds k1 k2
  obtain ⟨c1, c2, n1, n2, d1, d2⟩ := hF
  have QU := fun w => hide (refquo_any t.c (t.n * k) (t.d * 360) w (by omega) c2 p1 (by omega) (by omega) (by omega))
  unfold QuoPost at QU
  have hU := hide (show iV t k = iQ t k + iU t k from rfl)
  have hiU := hide (show iU t k = if t.d * 360 < 2 * iR t k ∨ (2 * iR t k = t.d * 360 ∧ iQ t k % 2 = 1) then 1 else 0 from rfl)
  have eQ : qV (t.c * (t.n * k)) (t.d * 360) = iQ t k := by unfold qV; rw [if_pos (by unfold iQ at q2; omega)]; rfl
  have eR : qR (t.c * (t.n * k)) (t.d * 360) = iR t k := by unfold qR; rw [if_pos (by unfold iQ at q2; omega)]; rfl
  have eB : qB (t.c * (t.n * k)) (t.d * 360) = true := by unfold qB; exact decide_eq_true (by unfold iQ at q2; omega)
  rw [eQ, eR, eB] at QU
  clear eQ eR eB x1
  obtain ⟨P, hP⟩ : ∃ P, t.n * k = P := ⟨_, rfl⟩
  obtain ⟨D, hD⟩ : ∃ D, t.d * 360 = D := ⟨_, rfl⟩
  rw [hP] at p1 p2 QU
  rw [hD] at hiU r2 QU
  have D1 : 0 < D := by omega
  have D2 : D ≤ 360000000000 := by omega
  have HR := hide (one_alloc w (Obj.cells #[.int .i64 t.n, .int .i64 t.d] 23))
  rw [hU.out]
  generalize iQ t k = Q at *
  generalize iR t k = R at *
  clear hU p3
  by_cases a1 : D < 2 * R
  · have e : iU t k = 1 := by rw [hiU.out, if_pos (.inl a1)]
    rw [e]
    clear hiU e
    go_enter Tryd.func29, Tryd.ntmps29
    go_wp2_with fail
    refine (QU _).out.mono ?_
    rintro e w' ⟨rfl, n, rfl⟩
    go_wp2_with fail
    go_ret2
    exact ⟨by first | rfl | (congr 3; first | rfl | (simp)), below_drewN HR.out _⟩
  · by_cases a2 : 2 * R = D
    · have a2' : (2 * R == D) = true := by simpa using a2
      have HA2 := hide a2
      by_cases a3 : Q % 2 = 1
      · have e : iU t k = 1 := by rw [hiU.out, if_pos (.inr ⟨a2, a3⟩)]
        have a3' : (Q % 2 == 1) = true := by simpa using a3
        have a4 : (Q.tmod 2 == 1) = true := by rw [Int.tmod_eq_emod_of_nonneg q1]; exact a3'
        rw [e]
        clear hiU e a2 HA2
        go_enter Tryd.func29, Tryd.ntmps29
        go_wp2_with fail
        refine (QU _).out.mono ?_
        rintro e w' ⟨rfl, n, rfl⟩
        go_wp2_with fail
        go_ret2
        exact ⟨by first | rfl | (congr 3; first | rfl | (simp)), below_drewN HR.out _⟩
      · have e : iU t k = 0 := by rw [hiU.out, if_neg (by rintro (h | ⟨_, h⟩); exact a1 h; exact a3 h)]
        have a3' : (Q % 2 == 1) = false := by simpa using a3
        have a4 : (Q.tmod 2 == 1) = false := by rw [Int.tmod_eq_emod_of_nonneg q1]; exact a3'
        rw [e, Int.add_zero]
        clear hiU e a2 HA2
        go_enter Tryd.func29, Tryd.ntmps29
        go_wp2_with fail
        refine (QU _).out.mono ?_
        rintro e w' ⟨rfl, n, rfl⟩
        go_wp2_with fail
        go_ret2
        exact ⟨by first | rfl | (congr 3; first | rfl | (simp)), below_drewN HR.out _⟩
    · have a2' : (2 * R == D) = false := by simpa using a2
      have e : iU t k = 0 := by rw [hiU.out, if_neg (by rintro (h | ⟨h, _⟩); exact a1 h; exact a2 h)]
      rw [e, Int.add_zero]
      clear hiU e a2
      go_enter Tryd.func29, Tryd.ntmps29
      go_wp2_with fail
      refine (QU _).out.mono ?_
      rintro e w' ⟨rfl, n, rfl⟩
      go_wp2_with fail
      go_ret2
      exact ⟨by first | rfl | (congr 3; first | rfl | (simp)), below_drewN HR.out _⟩

end Go.Proofs.YtjjaemobgfconaaDoor
