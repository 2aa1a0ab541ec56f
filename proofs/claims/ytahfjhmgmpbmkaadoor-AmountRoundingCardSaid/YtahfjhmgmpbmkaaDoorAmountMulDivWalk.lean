/-
  The walk of the statement AmountMulDiv: amount.MulDiv against the reference.
-/
import Derived.Test.YtahfjhmgmpbmkaaDoorRefMd
import Derived.Test.YtahfjhmgmpbmkaaDoorDiv
namespace Go.Proofs.YtahfjhmgmpbmkaaDoor
open Go.RowKit

theorem absP_nonneg (x num : Int) : 0 ≤ absP x num := by unfold absP; exact Int.mul_nonneg (by omega) (by omega)
/-- bits.Div64 answers as it is asked of it, for every divisor that fits. -/
theorem divFor_any (x num den : Int) (hd : den < 18446744073709551616) : DivFor x num den := fun hh => by
  have hp := absP_nonneg x num
  exact div_any _ _ den (by omega) hh hd (by omega) (by omega)

theorem amountMulDiv_walk (a0 : Int) (a1 : Int) (a2 : Int) (a3 : Int) (w : World) (_w0 : (Lit.int .i64 a0).wf = true) (_w1 : (Lit.int .i64 a1).wf = true) (w2 : (Lit.int .i64 a2).wf = true) (_w3 : (Lit.int .i64 a3).wf = true) :
    Calls Tryd.prog 6 #[.int .i64 a0, .int .i64 a1, .int .i64 a2, .int .i64 a3] w fun e w' => e = .returned (.bool true) ∧ Below w.heap.size w w' := by
  have hd := (wf_bounds w2).2
  have c := fun w => hide (muldiv_any a0 a1 a2 a3 w (divFor_any a0 a1 a2 (by omega)))
  have r := fun w => hide (refmd_any a0 a1 a2 a3 w)
  have kn := fun w => hide (known_any w)
  clear w2 hd
  go_enter Tryd.func6, Tryd.ntmps6
  go_wp2_with fail
  refine (c _).out.mono ?_
  rintro e w1 ⟨rfl, hb⟩
  have HB := hide hb
  clear hb
  go_wp2_with fail
  refine (r _).out.mono ?_
  rintro e w2 ⟨rfl, n, rfl⟩
  go_wp2_with fail
  refine (kn _).out.mono ?_
  rintro e w3 ⟨rfl, hb⟩
  have HB2 := hide ((below_drewN HB.out n).trans (hb.mono (below_drewN HB.out n).size))
  clear hb
  go_wp2_with fail
  go_ret
  exact ⟨rfl, HB2.out⟩
end Go.Proofs.YtahfjhmgmpbmkaaDoor
