/-
  The walk of DateMonthLengths.
-/
import Derived.Test.YtahfjhmgmpbmkacDoorDaC
namespace Go.Proofs.YtahfjhmgmpbmkacDoor
open Go.RowKit
set_option linter.unusedVariables false

set_option maxRecDepth 20000 in
theorem dateMonthLengths_walk (a0 : Int) (a1 : Int) (w : World) (w0 : (Lit.int .i64 a0).wf = true) (w1 : (Lit.int .i64 a1).wf = true) (hL : laidMetH Tryd.prog laid w) :
    Calls Tryd.prog 5 #[.int .i64 a0, .int .i64 a1] w fun e w' => e = .returned (.bool true) ∧ Below w.heap.size w w' := by
  have T := tabs_of hL
  have kn := hide (known_any w T)
  have TT := hide T
  have l1 := fun w => hide (leap_any a0 w)
  have l2 := fun w => hide (rleap_any a0 w)
  have d1 := fun w T => hide (dim_any a0 a1 w T)
  have d2 := fun w => hide (rlen_any a0 a1 w)
  clear T hL w0 w1
  generalize leapB a0 = b at *
  generalize dim a0 a1 = D at *
  have hbb : (b == b) = true := by simp
  go_enter Tryd.func5, Tryd.ntmps5
  go_wp2_with fail
  refine kn.out.mono ?_
  rintro e w1 ⟨rfl, hb⟩
  have T1 := hide (TT.out.keep hb)
  have HB := hide hb
  clear hb
  go_wp2_with fail
  refine (l1 _).out.mono ?_
  rintro e w2 ⟨rfl, rfl⟩
  go_wp2_with fail
  refine (l2 _).out.mono ?_
  rintro e w3 ⟨rfl, rfl⟩
  go_wp2_with fail
  refine (d1 _ T1.out).out.mono ?_
  rintro e w4 ⟨rfl, rfl⟩
  go_wp2_with fail
  refine (d2 _).out.mono ?_
  rintro e w5 ⟨rfl, rfl⟩
  go_wp2_with fail
  go_ret
  exact ⟨rfl, HB.out⟩
end Go.Proofs.YtahfjhmgmpbmkacDoor
