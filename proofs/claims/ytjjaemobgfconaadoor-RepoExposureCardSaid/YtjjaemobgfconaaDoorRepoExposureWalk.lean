/-
  RepoExposure: the walk.
-/
import Derived.Test.YtjjaemobgfconaaDoorEF
import Derived.Test.YtjjaemobgfconaaDoorRepoInterestWalk
import Derived.WalkKit
import Derived.Deep.QuietTactic
import Derived.BigQuiet
import Derived.Laws.EntriesVeiled
import Derived.Lib.MinMax
import Derived.Deep.Light
namespace Go.Proofs.YtjjaemobgfconaaDoor
open Go.RowKit
set_option linter.unusedVariables false
set_option linter.unusedSimpArgs false
set_option linter.unnecessarySimpa false

theorem ex_mono {t : Ag} {day p p2 : Int} (h1 : exE t day p = 0) (h2 : exE t day p2 = 0) (h : p ≤ p2) : exV t day p2 ≤ exV t day p := by
  unfold exV
  rw [if_neg (by rw [h2]; decide), if_neg (by rw [h1]; decide)]
  have hz : inE t day = 0 := by
    refine Classical.byContradiction fun hz => ?_
    unfold exE at h1
    rw [if_pos hz] at h1
    exact hz h1
  have q1 := (in_facts hz).1
  have : t.q * p ≤ t.q * p2 := Int.mul_le_mul_of_nonneg_left h (by omega)
  omega
set_option maxHeartbeats 8000000 in
set_option maxRecDepth 20000 in
theorem repoExposure_walk (t : Ag) (a1 : Int) (a2 : Int) (a3 : Int) (w : World) (h : t.Ok) (w1 : (Lit.int .i64 a1).wf = true) (w2 : (Lit.int .i64 a2).wf = true) (w3 : (Lit.int .i64 a3).wf = true) (hL : laidMetH Tryd.prog laid w) :
    Calls Tryd.prog 6 #[.agg #[.string t.rf, .string t.se, .string t.bu, .string t.sn, .int .i64 t.q, .int .i64 t.c, .int .i64 t.n, .int .i64 t.d, .int .i64 t.op, .int .i64 t.cl], .int .i64 a1, .int .i64 a2, .int .i64 a3] w fun e w' => e = .returned (.bool true) ∧ Below w.heap.size w w' := by
  have S := hide (shp_of hL)
  have CV := fun w => hide (conv_any t w)
  have KN := fun w S => hide (known_any w S)
  have X1 := fun w S => hide (expo_any t a1 a2 w S h (wfi w1).1 (wfi w1).2)
  have X2 := fun w S => hide (expo_any t a1 a3 w S h (wfi w1).1 (wfi w1).2)
  have RX := fun w => hide (rexpo_any t a1 a2 w h (wfi w1).1 (wfi w1).2)
  have MN := fun h1 h2 h => hide (ex_mono (t := t) (day := a1) (p := a2) (p2 := a3) h1 h2 h)
  have HR := hide (one_alloc w (Obj.cells #[.string t.rf, .string t.se, .string t.bu, .string t.sn, .int .i64 t.q, .int .i64 t.c, .int .i64 t.n, .int .i64 t.d, .int .i64 t.op, .int .i64 t.cl] 25))
  have HB := hide (RB.new t w 25)
  clear h hL w1 w2 w3
  generalize exE t a1 a2 = E at *
  generalize exV t a1 a2 = V at *
  generalize exE t a1 a3 = F at *
  generalize exV t a1 a3 = U at *
  go_enter Tryd.func6, Tryd.ntmps6
  obtain ⟨_, c0, c1, c2, c3, c4, c5, c6, c7, c8, c9⟩ := HB.out
  go_wp2_with fail
  refine ((CV _).out).mono ?_
  rintro e x1 ⟨rfl, hb⟩
  have HB := hide (HB.out.keep hb)
  have HR := hide (HR.out.trans (hb.mono HR.out.size))
  clear hb
  try clear c0 c1 c2 c3 c4 c5 c6 c7 c8 c9
  obtain ⟨_, c0, c1, c2, c3, c4, c5, c6, c7, c8, c9⟩ := HB.out
  go_wp2_with fail
  refine ((X1 _ (S.out.keep HR.out)).out).mono ?_
  rintro e x2 ⟨rfl, hb⟩
  have HB := hide (HB.out.keep hb)
  have HR := hide (HR.out.trans (hb.mono HR.out.size))
  clear hb
  try clear c0 c1 c2 c3 c4 c5 c6 c7 c8 c9
  obtain ⟨_, c0, c1, c2, c3, c4, c5, c6, c7, c8, c9⟩ := HB.out
  go_wp2_with fail
  refine ((RX _).out).mono ?_
  rintro e x3 ⟨rfl, hb⟩
  have HB := hide (HB.out.keep hb)
  have HR := hide (HR.out.trans (hb.mono HR.out.size))
  clear hb
  try clear c0 c1 c2 c3 c4 c5 c6 c7 c8 c9
  obtain ⟨_, c0, c1, c2, c3, c4, c5, c6, c7, c8, c9⟩ := HB.out
  go_wp2_with fail
  refine ((CV _).out).mono ?_
  rintro e x4 ⟨rfl, hb⟩
  have HB := hide (HB.out.keep hb)
  have HR := hide (HR.out.trans (hb.mono HR.out.size))
  clear hb
  try clear c0 c1 c2 c3 c4 c5 c6 c7 c8 c9
  obtain ⟨_, c0, c1, c2, c3, c4, c5, c6, c7, c8, c9⟩ := HB.out
  go_wp2_with fail
  refine ((X2 _ (S.out.keep HR.out)).out).mono ?_
  rintro e x5 ⟨rfl, hb⟩
  have HB := hide (HB.out.keep hb)
  have HR := hide (HR.out.trans (hb.mono HR.out.size))
  clear hb
  try clear c0 c1 c2 c3 c4 c5 c6 c7 c8 c9
  obtain ⟨_, c0, c1, c2, c3, c4, c5, c6, c7, c8, c9⟩ := HB.out
  go_wp2_with fail
  refine ((KN _ (S.out.keep HR.out)).out).mono ?_
  rintro e x6 ⟨rfl, hb⟩
  have HR := hide (HR.out.trans (hb.mono HR.out.size))
  clear hb HB c0 c1 c2 c3 c4 c5 c6 c7 c8 c9
  by_cases hE : E = 0
  · subst hE
    by_cases hF : F = 0
    · subst hF
      by_cases hp : a3 < a2
      · go_wp2_with fail
        go_ret
        exact ⟨rfl, HR.out⟩
      · have hm := (MN rfl rfl (by omega)).out
        go_wp2_with fail
        go_ret
        exact ⟨rfl, HR.out⟩
    · have hF' : (F != 0) = true := by simpa using hF
      go_wp2_with fail
      go_ret
      exact ⟨rfl, HR.out⟩
  · have hE' : (E != 0) = true := by simpa using hE
    go_wp2_with fail
    go_ret
    exact ⟨rfl, HR.out⟩

end Go.Proofs.YtjjaemobgfconaaDoor
