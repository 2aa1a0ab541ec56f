/-
  AmountFormatParse: the walk.
-/
import Derived.Test.YtgikafojkcjllaaDoorGE
namespace Go.Proofs.YtgikafojkcjllaaDoor
open Go.RowKit
set_option linter.unusedVariables false
set_option linter.unusedSimpArgs false

set_option maxHeartbeats 4000000 in
set_option maxRecDepth 20000 in
theorem amountFormatParse_walk (x : Int) (w : World) (w0 : (Lit.int .i64 x).wf = true) (hL : laidMetH Tryd.prog laid w) :
    Calls Tryd.prog 3 #[.int .i64 x] w fun e w' => e = .returned (.bool true) ∧ Below w.heap.size w w' := by
  have HP := hide (pow_of hL)
  have KN := fun w => hide (known_any w)
  clear hL w0
  by_cases h : okA x
  · have F1 := fun w hp => hide (fmt_any x w hp h)
    have F2 := fun w => hide (rfmt_any x w h)
    have F3 := fun w => hide (parse_fmt x w h)
    clear h
    generalize fmtT x = T at *
    go_enter Tryd.func3, Tryd.ntmps3
    go_wp2_with fail
    refine (F1 _ HP.out).out.mono ?_
    rintro e w1 ⟨rfl, hb⟩
    have HB := hide hb
    clear hb
    go_wp2_with fail
    refine (F2 _).out.mono ?_
    rintro e w2 ⟨rfl, hb⟩
    have HB := hide (HB.out.trans (hb.mono HB.out.size))
    clear hb
    go_wp2_with fail
    refine (F3 _).out.mono ?_
    rintro e w3 ⟨rfl, hb⟩
    have HB := hide (HB.out.trans (hb.mono HB.out.size))
    clear hb
    go_wp2_with fail
    refine (KN _).out.mono ?_
    rintro e w4 ⟨rfl, hb⟩
    have HB := hide (HB.out.trans (hb.mono HB.out.size))
    clear hb
    go_wp2_with fail
    go_ret
    exact ⟨rfl, HB.out⟩
  · have F1 := fun w => hide (fmt_no x w h)
    have F2 := fun w => hide (rfmt_no x w h)
    clear h
    go_enter Tryd.func3, Tryd.ntmps3
    go_wp2_with fail
    refine (F1 _).out.mono ?_
    rintro e w1 ⟨rfl, hb⟩
    have HB := hide hb
    clear hb
    go_wp2_with fail
    refine (F2 _).out.mono ?_
    rintro e w2 ⟨rfl, hb⟩
    have HB := hide (HB.out.trans (hb.mono HB.out.size))
    clear hb
    go_wp2_with fail
    refine (KN _).out.mono ?_
    rintro e w4 ⟨rfl, hb⟩
    have HB := hide (HB.out.trans (hb.mono HB.out.size))
    clear hb
    go_wp2_with fail
    go_ret
    exact ⟨rfl, HB.out⟩
end Go.Proofs.YtgikafojkcjllaaDoor
