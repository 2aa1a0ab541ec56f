/-
  The walk of DateWeekdays.
-/
import Derived.Test.YtahfjhmgmpbmkacDoorDaC
namespace Go.Proofs.YtahfjhmgmpbmkacDoor
open Go.RowKit
set_option linter.unusedVariables false

theorem leap_28 (y : Int) (h1 : 2000 ≤ y) (h2 : y ≤ 2071) : leapB (y + 28) = leapB y := by
  unfold leapB
  rw [decide_eq_decide]
  omega
theorem dim_28 (y m : Int) (h1 : 2000 ≤ y) (h2 : y ≤ 2071) : dim (y + 28) m = dim y m := by
  have l := leap_28 y h1 h2
  unfold dim
  rw [l]
  have a : (y + 28 < 2000 ∨ 2199 < y + 28 ∨ m < 1 ∨ 12 < m) ↔ (y < 2000 ∨ 2199 < y ∨ m < 1 ∨ 12 < m) := by omega
  by_cases h : y < 2000 ∨ 2199 < y ∨ m < 1 ∨ 12 < m
  · rw [if_pos h, if_pos (a.2 h)]
  · rw [if_neg h, if_neg (fun x => h (a.1 x))]
theorem ny_28 (y : Int) (h1 : 2000 ≤ y) (h2 : y ≤ 2071) : NY (y + 28) = NY y + 10227 := by
  unfold NY lb; omega
theorem cum_28 (y : Int) (k : Nat) (h1 : 2000 ≤ y) (h2 : y ≤ 2071) : cum (y + 28) k = cum y k := by
  induction k with
  | zero => rfl
  | succ k ih => simp only [cum, ih, dim_28 y _ h1 h2]

theorem later (n y : Int) (k : Nat) (h : InMonth n y k) (hy : y ≤ 2071) (h28 : n ≤ 73048) (n0 : 0 ≤ n) :
    fcV (y + 28) ((k : Int) + 1) (n - NY y - cum y k + 1) = n + 10227 ∧ fcE (y + 28) ((k : Int) + 1) (n - NY y - cum y k + 1) = 0 ∧ n + 10227 ≤ 73048 := by
  have c1 := h.c1
  have c2 := h.c2
  have d := dim_28 y ((k : Int) + 1) h.y1 hy
  have hc : cum y (k + 1) = cum y k + dim y ((k : Int) + 1) := rfl
  have hh : 1 ≤ n - NY y - cum y k + 1 ∧ n - NY y - cum y k + 1 ≤ dim (y + 28) ((k : Int) + 1) := by rw [d]; omega
  unfold fcV fcE
  rw [if_pos hh, if_pos hh]
  refine ⟨?_, rfl, ?_⟩
  · unfold num
    rw [ny_28 y h.y1 hy, show ((k : Int) + 1 - 1).toNat = k by omega, cum_28 y k h.y1 hy]
    omega
  · have := h.hi
    have := ny_mono (show y + 1 ≤ 2072 by omega)
    have : NY 2072 = 26298 := by decide
    omega

set_option maxRecDepth 20000 in
theorem dateWeekdays_walk (a0 : Int) (w : World) (w0 : (Lit.int .i64 a0).wf = true) (hL : laidMetH Tryd.prog laid w) :
    Calls Tryd.prog 12 #[.int .i64 a0] w fun e w' => e = .returned (.bool true) ∧ Below w.heap.size w w' := by
  have T := tabs_of hL
  have kn := hide (known_any w T)
  have TT := hide T
  clear T hL w0
  obtain ⟨U, hU⟩ : ∃ U, U = IntKind.u64.wrap a0 := ⟨_, rfl⟩
  have u0 : 0 ≤ U := by rw [hU]; simp [IntKind.wrap, IntKind.bits, IntKind.signed]; omega
  obtain ⟨N, hN⟩ : ∃ N, N = U % 73048 := ⟨_, rfl⟩
  have n0 : 0 ≤ N := by omega
  have n1 : N ≤ 73047 := by omega
  have t1 : U.tmod 73048 = N := by rw [hN]; exact Int.tmod_eq_emod_of_nonneg u0
  have hU' := hU.symm
  have hN' := hN.symm
  clear hU hN
  have v := fun n w => hide (wkd_any n w)
  have k1 : wkd N = (N + 5) % 7 := by unfold wkd; rw [if_pos (by omega)]
  have k2 : wkd (N + 1) = (N + 6) % 7 := by unfold wkd; rw [if_pos (by omega)]; omega
  have hw : (wkd N + 1).tmod 7 = wkd (N + 1) := by rw [k1, k2, Int.tmod_eq_emod_of_nonneg (by omega)]; omega
  have K3 := hide k1
  have q1 : 0 ≤ wkd N := by rw [k1]; omega
  have q2 : wkd N ≤ 6 := by rw [k1]; omega
  clear k1 k2
  obtain ⟨y, k, IM⟩ := inMonth_ex N n0 (by omega)
  have tc := fun w T => hide (tc_in N y k w T IM)
  have yb1 := IM.y1
  have yb2 := IM.y2
  go_enter Tryd.func12, Tryd.ntmps12
  go_wp2_with fail
  refine kn.out.mono ?_
  rintro e w1 ⟨rfl, hb⟩
  have T1 := hide (TT.out.keep hb)
  have HB := hide hb
  clear hb
  go_wp2_with fail
  refine (v _ _).out.mono ?_
  rintro e w2 ⟨rfl, rfl⟩
  go_wp2_with fail
  refine (v _ _).out.mono ?_
  rintro e w3 ⟨rfl, rfl⟩
  go_wp2_with fail
  refine (tc _ T1.out).out.mono ?_
  rintro e w4 ⟨rfl, hb⟩
  have HB4 := hide (HB.out.trans (hb.mono HB.out.size))
  have T4 := hide (T1.out.keep hb)
  clear hb
  by_cases hy : y ≤ 2071
  · obtain ⟨e1, e2, e3⟩ := later N y k IM hy (by omega) n0
    have fc := fun w T => hide (fc_any (y + 28) ((k : Int) + 1) (N - NY y - cum y k + 1) w T)
    rw [e1, e2] at fc
    have k4 : wkd (N + 10227) = wkd N := by rw [K3.out]; unfold wkd; rw [if_pos (by omega)]; omega
    have HI := hide IM
    clear IM e1 e2
    generalize N - NY y - cum y k + 1 = D at *
    go_wp2_with fail
    have HB5 : Hid (Below w.heap.size w (w4.alloc (.cells #[.int .i64 (y + 28), .int .i64 ((k : Int) + 1), .int .i64 D] 26))) := hide (HB4.out.alloc HB4.out.size _)
    have T5 : Hid (Tabs (w4.alloc (.cells #[.int .i64 (y + 28), .int .i64 ((k : Int) + 1), .int .i64 D] 26))) := hide (T4.out.keep ((Below.refl _ _).alloc (Nat.le_refl _) _))
    refine (fc _ T5.out).out.mono ?_
    rintro e w5 ⟨rfl, hb5⟩
    have HB6 := hide (HB5.out.trans (hb5.mono HB5.out.size))
    clear hb5
    go_wp2_with fail
    refine (v _ _).out.mono ?_
    rintro e w6 ⟨rfl, rfl⟩
    go_wp2_with fail
    refine (v _ _).out.mono ?_
    rintro e w7 ⟨rfl, rfl⟩
    go_wp2_with fail
    go_ret
    exact ⟨rfl, HB6.out⟩
  · have HB5 := fun o => hide (HB4.out.alloc HB4.out.size o)
    have hy2 : 2071 < y := by omega
    go_wp2_with fail
    go_ret
    exact ⟨rfl, (HB5 _).out⟩
end Go.Proofs.YtahfjhmgmpbmkacDoor
