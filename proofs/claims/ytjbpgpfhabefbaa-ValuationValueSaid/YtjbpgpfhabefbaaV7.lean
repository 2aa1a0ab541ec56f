/-
  The example of the chapter (the statements' 'known') holds at this translation, in every world; the walk of ValuationNeeded.
-/
import Derived.Test.YtjbpgpfhabefbaaV6
namespace Go.Proofs.Ytjbpgpfhabefbaa
open Go.RowKit
set_option linter.unusedVariables false

theorem value_at {q p n d v e : Int} (w : World) (hn : I64 n) (hd : I64 d) (h1 : vV q p n d = v) (h2 : vE q p n d = e) :
    Calls Try.prog 4 #[.int .i64 q, .int .i64 p, .agg #[.int .i64 n, .int .i64 d]] w fun e' w' => e' = .returned (.tuple #[.int .i64 v, .int .i64 e]) ∧ Below w.heap.size w w' := by
  have := value_any q p n d w hn hd
  rwa [h1, h2] at this
theorem need_at {a p l n d v e : Int} (w : World) (hn : I64 n) (hd : I64 d) (h1 : nV a p l n d = v) (h2 : nE a p l n d = e) :
    Calls Try.prog 15 #[.int .i64 a, .int .i64 p, .int .i64 l, .agg #[.int .i64 n, .int .i64 d]] w fun e' w' => e' = .returned (.tuple #[.int .i64 v, .int .i64 e]) ∧ Below w.heap.size w w' := by
  have := need_any a p l n d w hn hd
  rwa [h1, h2] at this

theorem known_any (w : World) : Calls Try.prog 7 #[] w fun e w' => e = .returned (.bool true) ∧ Below w.heap.size w w' := by
  have A := fun w => hide (value_at (q := 100) (p := 250) (n := 1) (d := 5) (v := 20000) (e := 0) w (by unfold I64; decide) (by unfold I64; decide) (by decide) (by decide))
  have B := fun w => hide (value_at (q := 3) (p := 333) (n := 1) (d := 2) (v := 499) (e := 0) w (by unfold I64; decide) (by unfold I64; decide) (by decide) (by decide))
  have C := fun w => hide (need_at (a := 500) (p := 333) (l := 1) (n := 1) (d := 2) (v := 4) (e := 0) w (by unfold I64; decide) (by unfold I64; decide) (by decide) (by decide))
  have D := fun w => hide (need_at (a := 500) (p := 333) (l := 10) (n := 1) (d := 2) (v := 10) (e := 0) w (by unfold I64; decide) (by unfold I64; decide) (by decide) (by decide))
  go_enter Try.func7, Try.ntmps7
  go_wp2_with fail
  refine (A _).out.mono ?_
  rintro e w1 ⟨rfl, hb1⟩
  have HB1 := hide hb1
  clear hb1
  go_wp2_with fail
  refine (B _).out.mono ?_
  rintro e w2 ⟨rfl, hb⟩
  have HB2 := hide (HB1.out.trans (hb.mono HB1.out.size))
  clear hb
  go_wp2_with fail
  refine (C _).out.mono ?_
  rintro e w3 ⟨rfl, hb⟩
  have HB3 := hide (HB2.out.trans (hb.mono HB2.out.size))
  clear hb
  go_wp2_with fail
  refine (D _).out.mono ?_
  rintro e w4 ⟨rfl, hb⟩
  have HB4 := hide (HB3.out.trans (hb.mono HB3.out.size))
  clear hb
  go_wp2_with fail
  go_ret
  exact ⟨rfl, HB4.out⟩
end Go.Proofs.Ytjbpgpfhabefbaa
