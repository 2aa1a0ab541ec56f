/-
  The walk of DateClocks.
-/
import Derived.Test.YtahfjhmgmpbmkacDoorDclltn
import Derived.Test.YtahfjhmgmpbmkacDoorDclltp
import Derived.Test.YtahfjhmgmpbmkacDoorDclltq
import Derived.Test.YtahfjhmgmpbmkacDoorDclltk
import Derived.Test.YtahfjhmgmpbmkacDoorDclgtn
import Derived.Test.YtahfjhmgmpbmkacDoorDclgtp
import Derived.Test.YtahfjhmgmpbmkacDoorDclgtq
import Derived.Test.YtahfjhmgmpbmkacDoorDclgtk
import Derived.Test.YtahfjhmgmpbmkacDoorDcleln
import Derived.Test.YtahfjhmgmpbmkacDoorDclelp
import Derived.Test.YtahfjhmgmpbmkacDoorDclelq
import Derived.Test.YtahfjhmgmpbmkacDoorDclelk
import Derived.Test.YtahfjhmgmpbmkacDoorDclegnp
import Derived.Test.YtahfjhmgmpbmkacDoorDclegq
import Derived.Test.YtahfjhmgmpbmkacDoorDclegk
import Derived.Test.YtahfjhmgmpbmkacDoorDcleenp
import Derived.Test.YtahfjhmgmpbmkacDoorDcleeq
import Derived.Test.YtahfjhmgmpbmkacDoorDcleek
namespace Go.Proofs.YtahfjhmgmpbmkacDoor
open Go.RowKit
set_option linter.unusedVariables false

theorem dcl_lt (a0 b a1 A : Int) (B : Int) (d : Int) (w : World) (TT : Hid (Tabs w)) (d0 : ∀ w, Calls Tryd.prog 14 #[.int .i64 a0] w fun e w' => e = .returned (.int .i64 A) ∧ w = w') (d1 : ∀ w, Calls Tryd.prog 14 #[.int .i64 a1] w fun e w' => e = .returned (.int .i64 B) ∧ w = w') (hc : A < B) :
    Calls Tryd.prog 11 #[.agg #[.int .i64 a0, .int .i64 b], .agg #[.int .i64 a1, .int .i64 d]] w fun e w' => e = .returned (.bool true) ∧ Below w.heap.size w w' := by
  by_cases hn : A < 0 ∨ 73048 < A
  · exact dcl_ltn a0 b a1 A B d w TT d0 d1 hc hn
  · obtain ⟨y, k, IM⟩ := inMonth_ex A (by omega) (by omega)
    by_cases hm : b < 0
    · exact dcl_ltp a0 b a1 A B d w TT d0 d1 hc y k IM hm
    · by_cases hm2 : 1439 < b
      · exact dcl_ltq a0 b a1 A B d w TT d0 d1 hc y k IM hm2
      · exact dcl_ltk a0 b a1 A B d w TT d0 d1 hc y k IM (by omega) (by omega)
theorem dcl_gt (a0 b a1 A : Int) (B : Int) (d : Int) (w : World) (TT : Hid (Tabs w)) (d0 : ∀ w, Calls Tryd.prog 14 #[.int .i64 a0] w fun e w' => e = .returned (.int .i64 A) ∧ w = w') (d1 : ∀ w, Calls Tryd.prog 14 #[.int .i64 a1] w fun e w' => e = .returned (.int .i64 B) ∧ w = w') (hc : B < A) :
    Calls Tryd.prog 11 #[.agg #[.int .i64 a0, .int .i64 b], .agg #[.int .i64 a1, .int .i64 d]] w fun e w' => e = .returned (.bool true) ∧ Below w.heap.size w w' := by
  by_cases hn : A < 0 ∨ 73048 < A
  · exact dcl_gtn a0 b a1 A B d w TT d0 d1 hc hn
  · obtain ⟨y, k, IM⟩ := inMonth_ex A (by omega) (by omega)
    by_cases hm : b < 0
    · exact dcl_gtp a0 b a1 A B d w TT d0 d1 hc y k IM hm
    · by_cases hm2 : 1439 < b
      · exact dcl_gtq a0 b a1 A B d w TT d0 d1 hc y k IM hm2
      · exact dcl_gtk a0 b a1 A B d w TT d0 d1 hc y k IM (by omega) (by omega)
theorem dcl_el (a0 b a1 A : Int) (d : Int) (w : World) (TT : Hid (Tabs w)) (d0 : ∀ w, Calls Tryd.prog 14 #[.int .i64 a0] w fun e w' => e = .returned (.int .i64 A) ∧ w = w') (d1 : ∀ w, Calls Tryd.prog 14 #[.int .i64 a1] w fun e w' => e = .returned (.int .i64 A) ∧ w = w') (hc : b < d) :
    Calls Tryd.prog 11 #[.agg #[.int .i64 a0, .int .i64 b], .agg #[.int .i64 a1, .int .i64 d]] w fun e w' => e = .returned (.bool true) ∧ Below w.heap.size w w' := by
  by_cases hn : A < 0 ∨ 73048 < A
  · exact dcl_eln a0 b a1 A d w TT d0 d1 hc hn
  · obtain ⟨y, k, IM⟩ := inMonth_ex A (by omega) (by omega)
    by_cases hm : b < 0
    · exact dcl_elp a0 b a1 A d w TT d0 d1 hc y k IM hm
    · by_cases hm2 : 1439 < b
      · exact dcl_elq a0 b a1 A d w TT d0 d1 hc y k IM hm2
      · exact dcl_elk a0 b a1 A d w TT d0 d1 hc y k IM (by omega) (by omega)
theorem dcl_eg (a0 b a1 A : Int) (d : Int) (w : World) (TT : Hid (Tabs w)) (d0 : ∀ w, Calls Tryd.prog 14 #[.int .i64 a0] w fun e w' => e = .returned (.int .i64 A) ∧ w = w') (d1 : ∀ w, Calls Tryd.prog 14 #[.int .i64 a1] w fun e w' => e = .returned (.int .i64 A) ∧ w = w') (hc : d < b) :
    Calls Tryd.prog 11 #[.agg #[.int .i64 a0, .int .i64 b], .agg #[.int .i64 a1, .int .i64 d]] w fun e w' => e = .returned (.bool true) ∧ Below w.heap.size w w' := by
  by_cases hn : A < 0 ∨ 73048 < A
  · exact dcl_egn a0 b a1 A d w TT d0 d1 hc hn
  · obtain ⟨y, k, IM⟩ := inMonth_ex A (by omega) (by omega)
    by_cases hm : b < 0
    · exact dcl_egp a0 b a1 A d w TT d0 d1 hc y k IM hm
    · by_cases hm2 : 1439 < b
      · exact dcl_egq a0 b a1 A d w TT d0 d1 hc y k IM hm2
      · exact dcl_egk a0 b a1 A d w TT d0 d1 hc y k IM (by omega) (by omega)
theorem dcl_ee (a0 b a1 A : Int) (w : World) (TT : Hid (Tabs w)) (d0 : ∀ w, Calls Tryd.prog 14 #[.int .i64 a0] w fun e w' => e = .returned (.int .i64 A) ∧ w = w') (d1 : ∀ w, Calls Tryd.prog 14 #[.int .i64 a1] w fun e w' => e = .returned (.int .i64 A) ∧ w = w')  :
    Calls Tryd.prog 11 #[.agg #[.int .i64 a0, .int .i64 b], .agg #[.int .i64 a1, .int .i64 b]] w fun e w' => e = .returned (.bool true) ∧ Below w.heap.size w w' := by
  by_cases hn : A < 0 ∨ 73048 < A
  · exact dcl_een a0 b a1 A w TT d0 d1 hn
  · obtain ⟨y, k, IM⟩ := inMonth_ex A (by omega) (by omega)
    by_cases hm : b < 0
    · exact dcl_eep a0 b a1 A w TT d0 d1 y k IM hm
    · by_cases hm2 : 1439 < b
      · exact dcl_eeq a0 b a1 A w TT d0 d1 y k IM hm2
      · exact dcl_eek a0 b a1 A w TT d0 d1 y k IM (by omega) (by omega)
theorem dateClocks_walk (a0_0 a0_1 : Int) (a1_0 a1_1 : Int) (w : World) (w0_0 : (Lit.int .i64 a0_0).wf = true) (w0_1 : (Lit.int .i64 a0_1).wf = true) (w1_0 : (Lit.int .i64 a1_0).wf = true) (w1_1 : (Lit.int .i64 a1_1).wf = true) (hL : laidMetH Tryd.prog laid w) :
    Calls Tryd.prog 11 #[.agg #[.int .i64 a0_0, .int .i64 a0_1], .agg #[.int .i64 a1_0, .int .i64 a1_1]] w fun e w' => e = .returned (.bool true) ∧ Below w.heap.size w w' := by
  have TT := hide (tabs_of hL)
  have d0 := fun w => day_any a0_0 w
  have d1 := fun w => day_any a1_0 w
  rcases Int.lt_trichotomy (dayV a0_0) (dayV a1_0) with h | h | h
  · exact dcl_lt a0_0 a0_1 a1_0 _ _ a1_1 w TT d0 d1 h
  · rw [← h] at d1
    rcases Int.lt_trichotomy a0_1 a1_1 with q | q | q
    · exact dcl_el a0_0 a0_1 a1_0 _ a1_1 w TT d0 d1 q
    · subst q
      exact dcl_ee a0_0 a0_1 a1_0 _ w TT d0 d1
    · exact dcl_eg a0_0 a0_1 a1_0 _ a1_1 w TT d0 d1 q
  · exact dcl_gt a0_0 a0_1 a1_0 _ _ a1_1 w TT d0 d1 h
end Go.Proofs.YtahfjhmgmpbmkacDoor
