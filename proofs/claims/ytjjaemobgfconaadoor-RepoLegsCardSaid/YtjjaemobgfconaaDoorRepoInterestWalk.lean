/-
  RepoInterest: the walk.
-/
import Derived.Test.YtjjaemobgfconaaDoorEC
import Derived.Test.YtjjaemobgfconaaDoorId15
import Derived.WalkKit
import Derived.Deep.QuietTactic
import Derived.BigQuiet
import Derived.Laws.EntriesVeiled
import Derived.Lib.MinMax
import Derived.Deep.Light
namespace Go.Proofs.YtjjaemobgfconaaDoor
open Go.RowKit
set_option linter.unusedVariables false
set_option linter.unusedSimpArgs false
set_option linter.unnecessarySimpa false

theorem wfi {a : Int} (h : (Lit.int .i64 a).wf = true) : -9223372036854775808 ≤ a ∧ a ≤ 9223372036854775807 := by
  simp [Lit.wf, IntKind.min, IntKind.max, IntKind.signed, IntKind.bits] at h
  omega
theorem iV_near {t : Ag} (hF : Fit t) {k : Int} (k1 : 0 ≤ k) (k2 : k ≤ 400) : 2 * (t.d * 360 * iV t k) ≤ 2 * (t.c * (t.n * k)) + t.d * 360 ∧ 2 * (t.c * (t.n * k)) ≤ 2 * (t.d * 360 * iV t k) + t.d * 360 := by
  obtain ⟨q1, q2, r1, r2, x1⟩ := hF.bds k1 k2
  have hX : t.d * 360 * iQ t k + iR t k = t.c * (t.n * k) := by unfold iQ iR; exact Int.mul_ediv_add_emod _ _
  have hV : t.d * 360 * iV t k = t.d * 360 * iQ t k + t.d * 360 * iU t k := by unfold iV; rw [Int.mul_add]
  rw [hV]
  generalize t.c * (t.n * k) = X at *
  generalize t.d * 360 * iQ t k = Y at *
  unfold iU
  split
  · rename_i h
    rw [Int.mul_one]
    omega
  · rename_i h
    rw [Int.mul_zero]
    omega
theorem iV_zero {t : Ag} (hF : Fit t) : iV t 0 = 0 := by
  have := hF.d1
  have e1 : iQ t 0 = 0 := by unfold iQ; simp
  have e2 : iR t 0 = 0 := by unfold iR; simp
  unfold iV iU
  rw [e1, e2, if_neg (by omega)]
  rfl
theorem iV_step {t : Ag} (hF : Fit t) {k : Int} (k1 : 0 ≤ k) (k2 : k ≤ 399) : iV t k ≤ iV t (k + 1) ∧ iV t (k + 1) - iV t k ≤ iV t 1 + 1 ∧ iV t 1 - 1 ≤ iV t (k + 1) - iV t k := by
  have a1 := iV_near hF k1 (by omega)
  have a2 := iV_near hF (k := k + 1) (by omega) (by omega)
  have a3 := iV_near hF (k := 1) (by omega) (by omega)
  have d1 := hF.d1
  have hN : 0 ≤ t.c * t.n := Int.mul_nonneg (by have := hF.c1; omega) hF.n1
  have x1 : t.c * (t.n * k) = t.c * t.n * k := by rw [Int.mul_assoc]
  have x2 : t.c * (t.n * (k + 1)) = t.c * t.n * k + t.c * t.n := by rw [← Int.mul_assoc, Int.mul_add, Int.mul_one]
  have x3 : t.c * (t.n * 1) = t.c * t.n := by rw [Int.mul_one]
  have hsame : t.c * t.n = 0 → iV t (k + 1) = iV t k := by
    intro h0
    have e : t.c * (t.n * (k + 1)) = t.c * (t.n * k) := by rw [x2, x1, h0]; simp
    have e1 : iQ t (k + 1) = iQ t k := by unfold iQ; rw [e]
    have e2 : iR t (k + 1) = iR t k := by unfold iR; rw [e]
    unfold iV iU
    rw [e1, e2]
  rw [x1] at a1
  rw [x2] at a2
  rw [x3] at a3
  have hD : 0 < t.d * 360 := by omega
  generalize t.c * t.n * k = X at *
  generalize t.c * t.n = M at *
  generalize iV t k = A at *
  generalize iV t (k + 1) = B at *
  generalize iV t 1 = F at *
  generalize t.d * 360 = D at *
  have up : ∀ e z : Int, z ≤ e → D * z ≤ D * e := fun e z h => Int.mul_le_mul_of_nonneg_left h (by omega)
  refine ⟨?_, ?_, ?_⟩
  · refine Classical.byContradiction fun h => ?_
    have h1 := up (A - B) 1 (by omega)
    rw [Int.mul_sub, Int.mul_one] at h1
    have := hsame (by omega)
    omega
  · refine Classical.byContradiction fun h => ?_
    have h1 := up (B - A - F) 2 (by omega)
    rw [Int.mul_sub, Int.mul_sub] at h1
    omega
  · refine Classical.byContradiction fun h => ?_
    have h1 := up (F - (B - A)) 2 (by omega)
    rw [Int.mul_sub, Int.mul_sub] at h1
    omega
theorem in_at {t : Ag} (hz : agE t = 0) {k : Int} (k1 : 0 ≤ k) (k2 : k ≤ t.cl - t.op) : inV t (t.op + k) = iV t k ∧ inE t (t.op + k) = 0 := by
  have e1 : inE t (t.op + k) = 0 := by unfold inE; rw [if_neg (by rw [hz]; decide), if_neg (by omega)]
  refine ⟨?_, e1⟩
  unfold inV
  rw [if_neg (by rw [e1]; decide), show t.op + k - t.op = k by omega]
set_option maxHeartbeats 8000000 in
set_option maxRecDepth 20000 in
theorem repoInterest_walk (t : Ag) (w : World) (h : t.Ok) (hL : laidMetH Tryd.prog laid w) :
    Calls Tryd.prog 4 #[.agg #[.string t.rf, .string t.se, .string t.bu, .string t.sn, .int .i64 t.q, .int .i64 t.c, .int .i64 t.n, .int .i64 t.d, .int .i64 t.op, .int .i64 t.cl]] w fun e w' => e = .returned (.bool true) ∧ Below w.heap.size w w' := by
  have S := hide (shp_of hL)
  have CV := fun w => hide (conv_any t w)
  have CK := fun w S => hide (acheck_any t w S h)
  have KN := fun w S => hide (known_any w S)
  have RP := fun w S => hide (repay_any t w S h)
  have HR := hide (one_alloc w (Obj.cells #[.string t.rf, .string t.se, .string t.bu, .string t.sn, .int .i64 t.q, .int .i64 t.c, .int .i64 t.n, .int .i64 t.d, .int .i64 t.op, .int .i64 t.cl] 25))
  have HB := hide (RB.new t w 25)
  by_cases hz : agE t = 0
  · rw [hz] at CK RP
    obtain ⟨z0, z1, z2, z3⟩ := ag_ok hz
    have hd := day_of z2
    have hF := fit_of z1
    have hrv : reV t = t.c + iV t (t.cl - t.op) := by unfold reV; rw [if_neg (by rw [hz]; decide)]
    have IN := fun (k : Int) (k1 : 0 ≤ k) (k2 : k ≤ t.cl - t.op) w S => hide (show Calls Tryd.prog 9 #[.agg #[.string t.rf, .string t.se, .string t.bu, .string t.sn, .int .i64 t.q, .int .i64 t.c, .int .i64 t.n, .int .i64 t.d, .int .i64 t.op, .int .i64 t.cl], .int .i64 (t.op + k)] w fun e w' => e = .returned (.tuple #[.int .i64 (iV t k), .int .i64 0]) ∧ Below w.heap.size w w' by
      have h9 := interest_any t (t.op + k) w S h (by omega) (by omega)
      rw [(in_at hz k1 k2).1, (in_at hz k1 k2).2] at h9
      exact h9)
    have I0 : ∀ w, Shp w → Hid (Calls Tryd.prog 9 #[.agg #[.string t.rf, .string t.se, .string t.bu, .string t.sn, .int .i64 t.q, .int .i64 t.c, .int .i64 t.n, .int .i64 t.d, .int .i64 t.op, .int .i64 t.cl], .int .i64 t.op] w fun e w' => e = .returned (.tuple #[.int .i64 0, .int .i64 0]) ∧ Below w.heap.size w w') := fun w S => by
      have h9 := IN 0 (by omega) (by omega) w S
      rw [Int.add_zero, iV_zero hF] at h9
      exact h9
    have ST := fun (k : Int) (k1 : 0 ≤ k) (k2 : k ≤ 399) => hide (iV_step hF k1 k2)
    have BD := fun (k : Int) (k1 : 0 ≤ k) (k2 : k ≤ 400) => hide (iV_bd hF k1 k2)
    rw [hrv] at RP
    have c1 := hF.c1
    have c2 := hF.c2
    have Z0 := hide (iV_zero hF)
    obtain ⟨o1, o2, o3, o4, o5, o6⟩ := hd
    clear h hL hz z0 z1 z2 z3 hF hrv
    go_enter Tryd.func4, Tryd.ntmps4
    obtain ⟨_, c0, c1, c2, c3, c4, c5, c6, c7, c8, c9⟩ := HB.out
    go_wp2_with fail
    refine ((CV _).out).mono ?_
    rintro e x ⟨rfl, hb⟩
    have HB := hide (HB.out.keep hb)
    have HR := hide (HR.out.trans (hb.mono HR.out.size))
    clear hb c0 c1 c2 c3 c4 c5 c6 c7 c8 c9
    have ha := one_alloc x (Obj.cells #[.string t.rf, .string t.se, .string t.bu, .string t.sn, .int .i64 t.q, .int .i64 t.c, .int .i64 t.n, .int .i64 t.d, .int .i64 t.op, .int .i64 t.cl] 28)
    have HC := hide (RB.new t x 28)
    have HB := hide (HB.out.keep ha)
    have HR := hide (HR.out.trans (ha.mono HR.out.size))
    clear ha
    go_wp2_with fail
    generalize x.alloc (Obj.cells #[.string t.rf, .string t.se, .string t.bu, .string t.sn, .int .i64 t.q, .int .i64 t.c, .int .i64 t.n, .int .i64 t.d, .int .i64 t.op, .int .i64 t.cl] 28) = y at *
    generalize x.heap.size = B at *
    refine ((CK _ (S.out.keep HR.out)).out).mono ?_
    rintro e y1 ⟨rfl, hb⟩
    have HB := hide (HB.out.keep hb)
    have HC := hide (HC.out.keep hb)
    have HR := hide (HR.out.trans (hb.mono HR.out.size))
    clear hb
    try clear c0 c1 c2 c3 c4 c5 c6 c7 c8 c9
    try clear e0 e1 e2 e3 e4 e5 e6 e7 e8 e9
    obtain ⟨_, c0, c1, c2, c3, c4, c5, c6, c7, c8, c9⟩ := HC.out
    obtain ⟨_, e0, e1, e2, e3, e4, e5, e6, e7, e8, e9⟩ := HB.out
    go_wp2_with fail
    refine ((I0 _ (S.out.keep HR.out)).out).mono ?_
    rintro e y2 ⟨rfl, hb⟩
    have HB := hide (HB.out.keep hb)
    have HC := hide (HC.out.keep hb)
    have HR := hide (HR.out.trans (hb.mono HR.out.size))
    clear hb
    try clear c0 c1 c2 c3 c4 c5 c6 c7 c8 c9
    try clear e0 e1 e2 e3 e4 e5 e6 e7 e8 e9
    obtain ⟨_, c0, c1, c2, c3, c4, c5, c6, c7, c8, c9⟩ := HC.out
    obtain ⟨_, e0, e1, e2, e3, e4, e5, e6, e7, e8, e9⟩ := HB.out
    go_wp2_with fail
    refine ((IN 1 (by omega) (by omega) _ (S.out.keep HR.out)).out).mono ?_
    rintro e y3 ⟨rfl, hb⟩
    have HB := hide (HB.out.keep hb)
    have HC := hide (HC.out.keep hb)
    have HR := hide (HR.out.trans (hb.mono HR.out.size))
    clear hb
    try clear c0 c1 c2 c3 c4 c5 c6 c7 c8 c9
    try clear e0 e1 e2 e3 e4 e5 e6 e7 e8 e9
    obtain ⟨_, c0, c1, c2, c3, c4, c5, c6, c7, c8, c9⟩ := HC.out
    obtain ⟨_, e0, e1, e2, e3, e4, e5, e6, e7, e8, e9⟩ := HB.out
    go_wp2_with fail
    clear c0 c1 c2 c3 c4 c5 c6 c7 c8 c9 e0 e1 e2 e3 e4 e5 e6 e7 e8 e9
    obtain ⟨f1, f2⟩ := (BD 1 (by omega) (by omega)).out
    obtain ⟨F, hF⟩ : ∃ F, F = iV t 1 := ⟨_, rfl⟩
    rw [← hF] at f1 f2 ⊢
    have HF := hide hF
    clear hF
    go_loopw [4, 8] (fun v4 v8 wr => ∃ k : Int, v4 = .int .i64 (iV t (k - 1)) ∧ v8 = .int .i64 (t.op + k) ∧ 1 ≤ k ∧ k ≤ t.cl - t.op + 1 ∧ Hid (RB w.heap.size t wr) ∧ Hid (RB B t wr) ∧ Hid (Below w.heap.size w wr)) (fun _ v8 _ => (t.cl + 2 - intOf v8).toNat)
    case atStart => exact ⟨1, by rw [show (1 : Int) - 1 = 0 by decide, Z0.out], rfl, by omega, by omega, HB, HC, HR⟩
    case round =>
      obtain ⟨k, rfl, rfl, k1, k2, HB, HC, HR⟩ := hrel
      obtain ⟨_, e0, e1, e2, e3, e4, e5, e6, e7, e8, e9⟩ := HB.out
      obtain ⟨_, c0, c1, c2, c3, c4, c5, c6, c7, c8, c9⟩ := HC.out
      obtain ⟨b1, b2⟩ := (BD (k - 1) (by omega) (by omega)).out
      by_cases hk : t.op + k ≤ t.cl
      · obtain ⟨b3, b4⟩ := (BD k (by omega) (by omega)).out
        have st := (ST (k - 1) (by omega) (by omega)).out
        rw [show k - 1 + 1 = k by omega, ← HF.out] at st
        have i9 := IN k (by omega) (by omega)
        have HV := hide (show iV t (k + 1 - 1) = iV t k by rw [show k + 1 - 1 = k by omega])
        generalize iV t k = V at *
        generalize iV t (k - 1) = U at *
        obtain ⟨s1, s2, s3⟩ := st
        have g1 : ¬ V < U := by omega
        have g2 : ¬ F + 1 < V - U := by omega
        have g3 : ¬ V - U < F - 1 := by omega
        clear s1 s2 s3
        go_wp2_with fail
        refine ((i9 _ (S.out.keep HR.out)).out).mono ?_
        rintro e z ⟨rfl, hb⟩
        have HB := hide (HB.out.keep hb)
        have HC := hide (HC.out.keep hb)
        have HR := hide (HR.out.trans (hb.mono HR.out.size))
        clear hb c0 c1 c2 c3 c4 c5 c6 c7 c8 c9 e0 e1 e2 e3 e4 e5 e6 e7 e8 e9
        go_wp2_with fail
        go_roundw
        case rel => exact ⟨k + 1, by rw [HV.out], by go_num, by omega, by omega, HB, HC, HR⟩
        case measure => simp [intOf]; omega
      · obtain rfl : k = t.cl - t.op + 1 := by omega
        rw [show t.cl - t.op + 1 - 1 = t.cl - t.op by omega] at b1 b2 ⊢
        generalize iV t (t.cl - t.op) = V at *
        go_wp2_with fail
        refine ((RP _ (S.out.keep HR.out)).out).mono ?_
        rintro e z ⟨rfl, hb⟩
        have HB := hide (HB.out.keep hb)
        have HR := hide (HR.out.trans (hb.mono HR.out.size))
        clear hb c0 c1 c2 c3 c4 c5 c6 c7 c8 c9 e0 e1 e2 e3 e4 e5 e6 e7 e8 e9
        go_wp2_with fail
        refine ((KN _ (S.out.keep HR.out)).out).mono ?_
        rintro e z2 ⟨rfl, hb⟩
        have HB := hide (HB.out.keep hb)
        have HR := hide (HR.out.trans (hb.mono HR.out.size))
        clear hb
        obtain ⟨_, e0, e1, e2, e3, e4, e5, e6, e7, e8, e9⟩ := HB.out
        go_wp2_with fail
        go_ret
        exact ⟨rfl, HR.out⟩
  · have hz' : (agE t != 0) = true := by simpa using hz
    generalize agE t = E at *
    clear h hL hz RP
    go_enter Tryd.func4, Tryd.ntmps4
    obtain ⟨_, c0, c1, c2, c3, c4, c5, c6, c7, c8, c9⟩ := HB.out
    go_wp2_with fail
    refine ((CV _).out).mono ?_
    rintro e x ⟨rfl, hb⟩
    have HR := hide (HR.out.trans (hb.mono HR.out.size))
    clear hb HB c0 c1 c2 c3 c4 c5 c6 c7 c8 c9
    have ha := one_alloc x (Obj.cells #[.string t.rf, .string t.se, .string t.bu, .string t.sn, .int .i64 t.q, .int .i64 t.c, .int .i64 t.n, .int .i64 t.d, .int .i64 t.op, .int .i64 t.cl] 28)
    have HC := hide (RB.new t x 28)
    have HR := hide (HR.out.trans (ha.mono HR.out.size))
    clear ha
    go_wp2_with fail
    generalize x.alloc (Obj.cells #[.string t.rf, .string t.se, .string t.bu, .string t.sn, .int .i64 t.q, .int .i64 t.c, .int .i64 t.n, .int .i64 t.d, .int .i64 t.op, .int .i64 t.cl] 28) = y at *
    refine ((CK _ (S.out.keep HR.out)).out).mono ?_
    rintro e y1 ⟨rfl, hb⟩
    have HR := hide (HR.out.trans (hb.mono HR.out.size))
    clear hb
    go_wp2_with fail
    refine ((KN _ (S.out.keep HR.out)).out).mono ?_
    rintro e y2 ⟨rfl, hb⟩
    have HR := hide (HR.out.trans (hb.mono HR.out.size))
    clear hb
    go_wp2_with fail
    go_ret
    exact ⟨rfl, HR.out⟩

end Go.Proofs.YtjjaemobgfconaaDoor
