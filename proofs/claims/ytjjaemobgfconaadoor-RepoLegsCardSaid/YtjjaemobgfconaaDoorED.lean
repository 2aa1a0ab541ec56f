/-
  Interest and Repayment of the reference.
-/
import Derived.Test.YtjjaemobgfconaaDoorEB
import Derived.Test.YtjjaemobgfconaaDoorEC
import Derived.WalkKit
import Derived.Deep.QuietTactic
import Derived.BigQuiet
import Derived.Laws.EntriesVeiled
import Derived.Lib.MinMax
import Derived.Deep.Light
namespace Go.Proofs.YtjjaemobgfconaaDoor
open Go.RowKit
set_option linter.unusedVariables false
set_option linter.unusedSimpArgs false
set_option linter.unnecessarySimpa false

set_option maxHeartbeats 4000000 in
set_option maxRecDepth 20000 in
theorem rinterest_any (t : Ag) (day : Int) (w : World) (h : t.Ok) (w1 : -9223372036854775808 ≤ day) (w2 : day ≤ 9223372036854775807) : Calls Tryd.prog 10 #[.agg #[.string t.rf, .string t.se, .string t.bu, .string t.sn, .int .i64 t.q, .int .i64 t.c, .int .i64 t.n, .int .i64 t.d, .int .i64 t.op, .int .i64 t.cl], .int .i64 day] w fun e w' => e = .returned (.tuple #[.int .i64 (inV t day), .int .i64 (inE t day)]) ∧ Below w.heap.size w w' := by
  have CK := fun w => hide (racheck_any t w h)
  clear h
  have HR := hide (one_alloc w (Obj.cells #[.string t.rf, .string t.se, .string t.bu, .string t.sn, .int .i64 t.q, .int .i64 t.c, .int .i64 t.n, .int .i64 t.d, .int .i64 t.op, .int .i64 t.cl] 25))
  have HB := hide (RB.new t w 25)
  by_cases hz : agE t = 0
  · obtain ⟨z0, z1, z2, z3⟩ := ag_ok hz
    have hd := day_of z2
    have IA := fun (h1 : t.op ≤ day) (h2 : day ≤ t.cl) w => hide (rint_any t (day - t.op) w (fit_of z1) (by omega) (by omega))
    rw [hz] at CK
    clear z0 z1 z2 z3
    by_cases g1 : day < t.op
    · have e1 : inE t day = 28 := by unfold inE; rw [if_neg (by rw [hz]; decide), if_pos (.inl g1)]
      have e2 : inV t day = 0 := by unfold inV; rw [if_pos (by rw [e1]; decide)]
      rw [e1, e2]
      clear e1 e2 IA hz hd
      go_enter Tryd.func10, Tryd.ntmps10
      obtain ⟨_, c0, c1, c2, c3, c4, c5, c6, c7, c8, c9⟩ := HB.out
      go_wp2_with fail
      refine ((CK _).out).mono ?_
      rintro e x ⟨rfl, hb⟩
      have HB := hide (HB.out.keep hb)
      have HR := hide (HR.out.trans (hb.mono HR.out.size))
      clear hb c0 c1 c2 c3 c4 c5 c6 c7 c8 c9
      obtain ⟨_, c0, c1, c2, c3, c4, c5, c6, c7, c8, c9⟩ := HB.out
      go_wp2_with fail
      go_ret2
      exact ⟨rfl, HR.out⟩
    · by_cases g2 : t.cl < day
      · have e1 : inE t day = 28 := by unfold inE; rw [if_neg (by rw [hz]; decide), if_pos (.inr g2)]
        have e2 : inV t day = 0 := by unfold inV; rw [if_pos (by rw [e1]; decide)]
        rw [e1, e2]
        clear e1 e2 IA hz hd
        go_enter Tryd.func10, Tryd.ntmps10
        obtain ⟨_, c0, c1, c2, c3, c4, c5, c6, c7, c8, c9⟩ := HB.out
        go_wp2_with fail
        refine ((CK _).out).mono ?_
        rintro e x ⟨rfl, hb⟩
        have HB := hide (HB.out.keep hb)
        have HR := hide (HR.out.trans (hb.mono HR.out.size))
        clear hb c0 c1 c2 c3 c4 c5 c6 c7 c8 c9
        obtain ⟨_, c0, c1, c2, c3, c4, c5, c6, c7, c8, c9⟩ := HB.out
        go_wp2_with fail
        go_ret2
        exact ⟨rfl, HR.out⟩
      · have e1 : inE t day = 0 := by unfold inE; rw [if_neg (by rw [hz]; decide), if_neg (by rintro (h | h); exact g1 h; exact g2 h)]
        have e2 : inV t day = iV t (day - t.op) := by unfold inV; rw [if_neg (by rw [e1]; decide)]
        rw [e1, e2]
        have IA := IA (by omega) (by omega)
        obtain ⟨b1, b2, b3, b4, _, _⟩ := hd
        generalize iV t (day - t.op) = V at *
        generalize decide (V ≤ 1000000000000000) = ok at *
        clear e1 e2 hz
        go_enter Tryd.func10, Tryd.ntmps10
        obtain ⟨_, c0, c1, c2, c3, c4, c5, c6, c7, c8, c9⟩ := HB.out
        go_wp2_with fail
        refine ((CK _).out).mono ?_
        rintro e x ⟨rfl, hb⟩
        have HB := hide (HB.out.keep hb)
        have HR := hide (HR.out.trans (hb.mono HR.out.size))
        clear hb c0 c1 c2 c3 c4 c5 c6 c7 c8 c9
        obtain ⟨_, c0, c1, c2, c3, c4, c5, c6, c7, c8, c9⟩ := HB.out
        go_wp2_with fail
        refine ((IA _).out).mono ?_
        rintro e y ⟨rfl, hb⟩
        have HR := hide (HR.out.trans (hb.mono HR.out.size))
        clear hb
        go_wp2_with fail
        go_ret2
        exact ⟨rfl, HR.out⟩
  · have e1 : inE t day = agE t := by unfold inE; rw [if_pos hz]
    have e2 : inV t day = 0 := by unfold inV; rw [if_pos (by rw [e1]; exact hz)]
    rw [e1, e2]
    have hz' : (agE t != 0) = true := by simpa using hz
    generalize agE t = E at *
    clear e1 e2 hz
    go_enter Tryd.func10, Tryd.ntmps10
    obtain ⟨_, c0, c1, c2, c3, c4, c5, c6, c7, c8, c9⟩ := HB.out
    go_wp2_with fail
    refine ((CK _).out).mono ?_
    rintro e x ⟨rfl, hb⟩
    have HB := hide (HB.out.keep hb)
    have HR := hide (HR.out.trans (hb.mono HR.out.size))
    clear hb c0 c1 c2 c3 c4 c5 c6 c7 c8 c9
    obtain ⟨_, c0, c1, c2, c3, c4, c5, c6, c7, c8, c9⟩ := HB.out
    go_wp2_with fail
    go_ret2
    exact ⟨rfl, HR.out⟩
theorem in_re {t : Ag} : inE t t.cl = agE t ∧ reV t = if agE t ≠ 0 then 0 else t.c + inV t t.cl := by
  by_cases hz : agE t = 0
  · obtain ⟨z0, z1, z2, z3⟩ := ag_ok hz
    have hd := day_of z2
    have e1 : inE t t.cl = 0 := by unfold inE; rw [if_neg (by rw [hz]; decide), if_neg (by omega)]
    refine ⟨by rw [e1, hz], ?_⟩
    unfold reV inV
    rw [if_neg (by rw [hz]; decide), if_neg (by rw [hz]; decide), if_neg (by rw [e1]; decide)]
  · have e1 : inE t t.cl = agE t := by unfold inE; rw [if_pos hz]
    exact ⟨e1, by unfold reV; rw [if_pos hz, if_pos hz]⟩
set_option maxHeartbeats 4000000 in
set_option maxRecDepth 20000 in
theorem rrepay_any (t : Ag) (w : World) (h : t.Ok) : Calls Tryd.prog 12 #[.agg #[.string t.rf, .string t.se, .string t.bu, .string t.sn, .int .i64 t.q, .int .i64 t.c, .int .i64 t.n, .int .i64 t.d, .int .i64 t.op, .int .i64 t.cl]] w fun e w' => e = .returned (.tuple #[.int .i64 (reV t), .int .i64 (agE t)]) ∧ Below w.heap.size w w' := by
  have CK := fun w => hide (rinterest_any t t.cl w h h.cl.1 h.cl.2)
  rw [in_re.1] at CK
  have HV := hide (in_re (t := t)).2
  have HR := hide (one_alloc w (Obj.cells #[.string t.rf, .string t.se, .string t.bu, .string t.sn, .int .i64 t.q, .int .i64 t.c, .int .i64 t.n, .int .i64 t.d, .int .i64 t.op, .int .i64 t.cl] 25))
  have HB := hide (RB.new t w 25)
  by_cases hz : agE t = 0
  · have e2 : reV t = t.c + inV t t.cl := by rw [HV.out, if_neg (by rw [hz]; decide)]
    have hb := reV_bd hz
    have hF := fit_of (ag_ok hz).2.1
    have c1 := hF.c1
    have c2 := hF.c2
    rw [e2] at hb
    obtain ⟨b1, b2⟩ := hb
    rw [e2]
    rw [hz] at CK ⊢
    generalize inV t t.cl = V at *
    clear e2 hz HV hF h
    go_enter Tryd.func12, Tryd.ntmps12
    obtain ⟨_, c0, c1, c2, c3, c4, c5, c6, c7, c8, c9⟩ := HB.out
    go_wp2_with fail
    refine ((CK _).out).mono ?_
    rintro e x ⟨rfl, hb⟩
    have HB := hide (HB.out.keep hb)
    have HR := hide (HR.out.trans (hb.mono HR.out.size))
    clear hb c0 c1 c2 c3 c4 c5 c6 c7 c8 c9
    obtain ⟨_, c0, c1, c2, c3, c4, c5, c6, c7, c8, c9⟩ := HB.out
    go_wp2_with fail
    go_ret2
    exact ⟨rfl, HR.out⟩
  · have e2 : reV t = 0 := by rw [HV.out, if_pos hz]
    rw [e2]
    have hz' : (agE t != 0) = true := by simpa using hz
    generalize agE t = E at *
    generalize inV t t.cl = V at *
    clear e2 hz HV h
    go_enter Tryd.func12, Tryd.ntmps12
    obtain ⟨_, c0, c1, c2, c3, c4, c5, c6, c7, c8, c9⟩ := HB.out
    go_wp2_with fail
    refine ((CK _).out).mono ?_
    rintro e x ⟨rfl, hb⟩
    have HB := hide (HB.out.keep hb)
    have HR := hide (HR.out.trans (hb.mono HR.out.size))
    clear hb c0 c1 c2 c3 c4 c5 c6 c7 c8 c9
    obtain ⟨_, c0, c1, c2, c3, c4, c5, c6, c7, c8, c9⟩ := HB.out
    go_wp2_with fail
    go_ret2
    exact ⟨rfl, HR.out⟩

end Go.Proofs.YtjjaemobgfconaaDoor
