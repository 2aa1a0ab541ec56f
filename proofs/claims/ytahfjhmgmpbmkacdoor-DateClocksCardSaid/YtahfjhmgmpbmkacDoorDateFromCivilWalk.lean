/-
  The walk of DateFromCivil.
-/
import Derived.Test.YtahfjhmgmpbmkacDoorDateCivilWalk
import Derived.Test.YtahfjhmgmpbmkacDoorRefFrom
namespace Go.Proofs.YtahfjhmgmpbmkacDoor
open Go.RowKit
set_option linter.unusedVariables false

/-- A date is valid. -/
def okD (y m d : Int) : Bool := decide (1 ≤ d ∧ d ≤ dim y m)
theorem rvalid_any (y m d : Int) (w : World) : Calls Tryd.prog 22 #[.agg #[.int .i64 y, .int .i64 m, .int .i64 d]] w fun e w' => e = .returned (.bool (okD y m d)) ∧ Below w.heap.size w w' := by
  have ln := fun W => hide (rlen_any y m W)
  have HG := hide ((Below.refl w.heap.size w).alloc (Nat.le_refl _) (.cells #[.int .i64 y, .int .i64 m, .int .i64 d] 32))
  by_cases h1 : 1 ≤ d
  · have e : okD y m d = decide (d ≤ dim y m) := by unfold okD; simp [h1]
    rw [e]
    clear e
    generalize dim y m = L at *
    go_enter Tryd.func22, Tryd.ntmps22
    go_wp2_with fail
    go_quiet ((go_at_call 27; exact quiet_left ((ln _).out)))
    go_wp2_with fail
    go_ret
    exact ⟨rfl, below_drewN HG.out _⟩
  · have e : okD y m d = false := by unfold okD; rw [decide_eq_false]; omega
    have hf : decide (1 ≤ d) = false := decide_eq_false h1
    rw [e]
    clear e
    go_enter Tryd.func22, Tryd.ntmps22
    go_wp2_with fail
    go_quiet (fail)
    go_wp2_with fail
    go_ret
    exact ⟨rfl, below_drewN HG.out _⟩

set_option maxRecDepth 20000 in
theorem dateFromCivil_walk (a0 b0 c0 : Int) (w : World) (_ : (Lit.int .i64 a0).wf = true) (_ : (Lit.int .i64 b0).wf = true) (_ : (Lit.int .i64 c0).wf = true) (hL : laidMetH Tryd.prog laid w) :
    Calls Tryd.prog 4 #[.agg #[.int .i64 a0, .int .i64 b0, .int .i64 c0]] w fun e w' => e = .returned (.bool true) ∧ Below w.heap.size w w' := by
  have T := tabs_of hL
  have B0 := hide ((Below.refl w.heap.size w).alloc (Nat.le_refl _) (.cells #[.int .i64 a0, .int .i64 b0, .int .i64 c0] 26))
  have TT := hide T
  have kn := hide (known_any (w.alloc (.cells #[.int .i64 a0, .int .i64 b0, .int .i64 c0] 26)) (T.keep B0.out))
  have H3 := hide (three_new w a0 b0 c0 26)
  have rv := fun W => hide (rvalid_any a0 b0 c0 W)
  have fc := fun W T => hide (fc_any a0 b0 c0 W T)
  clear T hL
  by_cases hv : 1 ≤ c0 ∧ c0 ≤ dim a0 b0
  · obtain ⟨y1, y2, p1, p2⟩ := dim_pos (y := a0) (m := b0) (by omega)
    obtain ⟨k, rfl⟩ : ∃ k : Nat, b0 = (k : Int) + 1 := ⟨(b0 - 1).toNat, by omega⟩
    have hd := (dim_bd a0 ((k : Int) + 1)).2
    have rf := fun W => hide (rfrom_in a0 c0 k W y1 y2 (by omega) hv.1 (by omega))
    have e1 : fcV a0 ((k : Int) + 1) c0 = NY a0 + cum a0 k + c0 - 1 := by
      unfold fcV num; rw [if_pos hv, show ((k : Int) + 1 - 1).toNat = k by omega]; omega
    have e2 : fcE a0 ((k : Int) + 1) c0 = 0 := by unfold fcE; rw [if_pos hv]
    have e3 : okD a0 ((k : Int) + 1) c0 = true := decide_eq_true hv
    rw [e1, e2] at fc
    rw [e3] at rv
    clear e1 e2 e3 hv hd y1 y2 p1 p2
    generalize NY a0 + cum a0 k + c0 - 1 = V at *
    generalize (k : Int) + 1 = b0 at *
    go_enter Tryd.func4, Tryd.ntmps4
    go_wp2_with fail
    refine kn.out.mono ?_
    rintro e w1 ⟨rfl, hb⟩
    have B1 := hide (B0.out.trans (hb.mono B0.out.size))
    obtain ⟨g0, g1, g2, glt⟩ := H3.out.keep hb
    have H31 := hide (H3.out.keep hb)
    clear hb
    have T1 := hide (TT.out.keep B1.out)
    clear kn B0 H3
    go_wp2_with fail
    refine (fc _ T1.out).out.mono ?_
    rintro e w2 ⟨rfl, hb⟩
    have B2 := hide (B1.out.trans (hb.mono B1.out.size))
    clear g0 g1 g2 glt
    obtain ⟨g0, g1, g2, glt⟩ := H31.out.keep hb
    clear hb
    have B3 := hide (B2.out.alloc B2.out.size (.cells #[.int .i64 a0, .int .i64 b0, .int .i64 c0] 32))
    have H5 := hide (three_new w2 a0 b0 c0 32)
    go_wp2_with fail
    refine (rv _).out.mono ?_
    rintro e w3 ⟨rfl, hb⟩
    have B4 := hide (B3.out.trans (hb.mono B3.out.size))
    clear g0 g1 g2 glt
    obtain ⟨g0, g1, g2, glt⟩ := H5.out.keep hb
    clear hb
    go_wp2_with fail
    refine (rf _).out.mono ?_
    rintro e w4 ⟨rfl, hb⟩
    have B5 := hide (B4.out.trans (hb.mono B4.out.size))
    clear hb
    go_wp2_with fail
    go_ret
    exact ⟨rfl, B5.out⟩
  · have e1 : fcV a0 b0 c0 = 0 := by unfold fcV; rw [if_neg hv]
    have e2 : fcE a0 b0 c0 = 28 := by unfold fcE; rw [if_neg hv]
    have e3 : okD a0 b0 c0 = false := decide_eq_false hv
    rw [e1, e2] at fc
    rw [e3] at rv
    clear e1 e2 e3 hv
    go_enter Tryd.func4, Tryd.ntmps4
    go_wp2_with fail
    refine kn.out.mono ?_
    rintro e w1 ⟨rfl, hb⟩
    have B1 := hide (B0.out.trans (hb.mono B0.out.size))
    obtain ⟨g0, g1, g2, glt⟩ := H3.out.keep hb
    have H31 := hide (H3.out.keep hb)
    clear hb
    have T1 := hide (TT.out.keep B1.out)
    clear kn B0 H3
    go_wp2_with fail
    refine (fc _ T1.out).out.mono ?_
    rintro e w2 ⟨rfl, hb⟩
    have B2 := hide (B1.out.trans (hb.mono B1.out.size))
    clear g0 g1 g2 glt
    obtain ⟨g0, g1, g2, glt⟩ := H31.out.keep hb
    clear hb
    have B3 := hide (B2.out.alloc B2.out.size (.cells #[.int .i64 a0, .int .i64 b0, .int .i64 c0] 32))
    have H5 := hide (three_new w2 a0 b0 c0 32)
    go_wp2_with fail
    refine (rv _).out.mono ?_
    rintro e w3 ⟨rfl, hb⟩
    have B4 := hide (B3.out.trans (hb.mono B3.out.size))
    clear g0 g1 g2 glt
    obtain ⟨g0, g1, g2, glt⟩ := H5.out.keep hb
    clear hb
    go_wp2_with fail
    go_ret
    exact ⟨rfl, B4.out⟩
end Go.Proofs.YtahfjhmgmpbmkacDoor
