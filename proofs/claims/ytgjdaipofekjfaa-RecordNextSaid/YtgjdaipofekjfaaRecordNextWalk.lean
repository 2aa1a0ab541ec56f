/-
  The walk of RecordNext.
-/
import Derived.Test.YtgjdaipofekjfaaRC
namespace Go.Proofs.Ytgjdaipofekjfaa
open Go.RowKit
set_option linter.unusedVariables false
set_option linter.unusedSimpArgs false
set_option linter.unnecessarySimpa false

set_option maxHeartbeats 4000000 in
set_option maxRecDepth 100000 in
theorem recordNext_walk (a0 : Option Addr) (len0 cap0 : Nat) (z0 : List Int) (w : World) (w0 : IsRow .u8 w a0 len0 cap0 z0) :
    Calls Try.prog 6 #[.slice a0 len0 cap0] w fun e w' => e = .returned (.bool true) ∧ Below w.heap.size w w' := by
  obtain ⟨l, hl, hr⟩ := w0.rd
  obtain ⟨v, n, hn, en, hc, hcl, rp⟩ := hr.cut hl 3000
  have RP := hide rp
  replace en : min (len0 : Int) 3000 = (n : Int) := en
  have hcl' : (l.take n).length ≤ 140737488355328 := by rw [hcl]; omega
  have NX := hide (next_any v _ w hc hcl')
  have RN := fun w' hb => hide (rnext_any v _ w' (hc.keep hb) hcl')
  have KN := fun w => hide (known_any w)
  clear rp hcl' hcl hc hr w0 hl hn
  generalize l.take n = L at *
  have SM := fun v1 v2 w' h1 h2 => hide (same_yes v1 v2 (Crc.nxtP L) w' h1 h2)
  go_enter Try.func6, Try.ntmps6
  go_wp2_with (refine wpList_part rfl (.tmp 9) none (some (.tmp 12)) rfl v RP.out ?_)
  refine NX.out.mono ?_
  rintro e w1 ⟨p, rfl, ho1, hb1⟩
  have O1 := hide ho1.rd
  have B1 := hide hb1
  clear ho1 hb1
  go_wp2_with fail
  refine (RN _ B1.out).out.mono ?_
  rintro e w2 ⟨p2, rfl, ho2, hb2⟩
  have O2 := hide ho2.rd
  have O1' := hide (O1.out.keep hb2)
  have B2 := hide (B1.out.trans (hb2.mono B1.out.size))
  clear ho2 hb2
  go_wp2_with fail
  refine (KN _).out.mono ?_
  rintro e w3 ⟨rfl, hb3⟩
  have S3 := SM _ _ _ (O1'.out.keep hb3) (O2.out.keep hb3)
  have B3 := hide (B2.out.trans (hb3.mono B2.out.size))
  clear hb3
  go_wp2_with fail
  refine S3.out.mono ?_
  rintro e w4 ⟨rfl, rfl⟩
  go_wp2_with fail
  go_ret
  exact ⟨rfl, B3.out⟩
end Go.Proofs.Ytgjdaipofekjfaa
