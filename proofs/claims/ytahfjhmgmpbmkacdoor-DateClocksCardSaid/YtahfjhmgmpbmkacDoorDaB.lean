/-
  The example of the chapter (the statements' 'known') holds at this translation, in every world in which the tables stand: the walk.
-/
import Derived.Test.YtahfjhmgmpbmkacDoorDaA
namespace Go.Proofs.YtahfjhmgmpbmkacDoor
open Go.RowKit
set_option linter.unusedVariables false

set_option maxRecDepth 20000 in
set_option maxHeartbeats 2000000 in
theorem known_any (w : World) (T : Tabs w) : Calls Tryd.prog 13 #[] w fun e w' => e = .returned (.bool true) ∧ Below w.heap.size w w' := by
  have TT := hide T
  have B0 := hide (Below.refl w.heap.size w)
  have wk := fun w => hide (k_wk w)
  clear T
  go_enter Tryd.func13, Tryd.ntmps13
  go_wp2_with fail
  refine (k_fc _ (TT.out.keep B0.out)).mono ?_
  rintro e w1 ⟨rfl, hb⟩
  have B1 := hide (B0.out.trans (hb.mono B0.out.size))
  clear hb
  go_wp2_with fail
  refine (k_iso _).mono ?_
  rintro e w2 ⟨rfl, rfl⟩
  go_wp2_with fail
  refine (k_f1 _ (TT.out.keep B1.out)).mono ?_
  rintro e w3 ⟨rfl, hb⟩
  have B2 := hide (B1.out.trans (hb.mono B1.out.size))
  clear hb
  go_wp2_with fail
  refine (k_pa _ (TT.out.keep B2.out)).mono ?_
  rintro e w4 ⟨rfl, hb⟩
  have B3 := hide (B2.out.trans (hb.mono B2.out.size))
  clear hb
  go_wp2_with fail
  refine (k_a1 _ (TT.out.keep B3.out)).mono ?_
  rintro e w5 ⟨rfl, hb⟩
  have B4 := hide (B3.out.trans (hb.mono B3.out.size))
  clear hb
  go_wp2_with fail
  refine (k_a13 _ (TT.out.keep B4.out)).mono ?_
  rintro e w6 ⟨rfl, hb⟩
  have B5 := hide (B4.out.trans (hb.mono B4.out.size))
  clear hb
  go_wp2_with fail
  refine (k_f2 _ (TT.out.keep B5.out)).mono ?_
  rintro e w7 ⟨rfl, hb⟩
  have B6 := hide (B5.out.trans (hb.mono B5.out.size))
  clear hb
  go_wp2_with fail
  refine (k_mb _ (TT.out.keep B6.out)).mono ?_
  rintro e w8 ⟨rfl, hb⟩
  have B7 := hide (B6.out.trans (hb.mono B6.out.size))
  clear hb
  go_wp2_with fail
  refine (wk _).out.mono ?_
  rintro e w9 ⟨rfl, rfl⟩
  go_wp2_with fail
  go_ret
  exact ⟨rfl, B7.out⟩
end Go.Proofs.YtahfjhmgmpbmkacDoor
