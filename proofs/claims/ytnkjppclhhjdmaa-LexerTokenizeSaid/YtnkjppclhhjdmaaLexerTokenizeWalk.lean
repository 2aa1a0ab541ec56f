/-
  LexerTokenize: the walk.
-/
import Derived.Test.YtnkjppclhhjdmaaRows
import Derived.Test.YtnkjppclhhjdmaaLJ
import Derived.WalkKit
import Derived.WalkSpells
import Derived.StillTactics
import Derived.Laws.Pointers
import Derived.Laws.Strings
import Derived.Laws.Strings2
import Derived.Laws.BytesArg
import Derived.LoopTactic
import Derived.Outline
import Derived.Below
import Derived.Laws.Externs
import Derived.Deep.QuietTactic
import Derived.Deep.RegionWith
import Derived.BigQuiet
import Derived.RegionTactic
import Derived.ChangeAlike
import Derived.OwnWalk
import Derived.Laws.OwnMore
import Derived.Laws.Rows
import Derived.Laws.EntriesVeiled
import Derived.Lib.MinMax
import Derived.Lib.Strings
namespace Go.Proofs.Ytnkjppclhhjdmaa
open Go.RowKit
set_option linter.unusedVariables false
set_option linter.unusedSimpArgs false
set_option linter.unnecessarySimpa false

set_option maxHeartbeats 4000000 in
set_option maxRecDepth 20000 in
theorem lexerTokenize_walk (s0 : ByteArray) (w : World) (w0 : s0.size ≤ maxLen) : Calls Try.prog 4 #[.string s0] w fun e w' => e = .returned (.bool true) ∧ Below w.heap.size w w' := by
  obtain ⟨n, hn⟩ : ∃ n : Nat, n = min s0.size 1100 := ⟨_, rfl⟩
  have en : min (s0.size : Int) 1100 = (n : Int) := by omega
  have hn0 : (n : Int) ≤ s0.size := by omega
  have hn1 : (0 : Int) ≤ n := by omega
  have hsz : (s0.extract 0 n).size ≤ 100000 := by rw [ByteArray.size_extract]; omega
  have TA := fun w => hide (tokenize_any (s0.extract 0 n) w hsz)
  have RT := fun w => hide (rtokens_any (s0.extract 0 n) w hsz)
  have KN := fun w => hide (known_any w)
  clear hn hsz
  go_enter Try.func4, Try.ntmps4
  go_wp2_with fail
  refine (TA _).out.mono ?_
  rintro e w1 ⟨v, p, er, rfl, hp, hb⟩
  have P1 := hide hp
  have B1 := hide hb
  clear hp hb
  go_wp2_with fail
  refine (RT _).out.mono ?_
  rintro e w2 ⟨v2, p2, er2, rfl, hp, hb⟩
  obtain ⟨rfl, rfl, N, a, a2, c, c2, rfl, rfl, hN, hc⟩ := both P1.out hp hb
  have HC := fun k h => hide (hc k h)
  have B2 := hide (B1.out.trans (hb.mono B1.out.size))
  clear hp hb P1 hc TA RT B1
  go_wp2_with fail
  go_loopw [9] (fun v9 wr => ∃ k : Nat, v9 = .int .i64 (k : Int) ∧ k ≤ N ∧ Hid (Below w2.heap.size w2 wr)) (fun v9 _ => N - (intOf v9).toNat)
  case atStart => exact ⟨0, rfl, Nat.zero_le _, hide (Below.refl _ _)⟩
  case round =>
    obtain ⟨k, rfl, hk, BL⟩ := hrel
    by_cases hlt : k < N
    · have hlt' : (k : Int) < N := by omega
      obtain ⟨g, g2, x, y, z, rfl, rfl, hg, hg2, q0, q1, q2, r0, r1, r2⟩ := (HC k hlt).out
      have q0 := (BL.out.cell (p := ⟨g, k * 3, none⟩) hg).trans q0
      have q1 := (BL.out.cell (p := ⟨g, k * 3 + 1, none⟩) hg).trans q1
      have q2 := (BL.out.cell (p := ⟨g, k * 3 + 2, none⟩) hg).trans q2
      have r0 := (BL.out.cell (p := ⟨g2, k * 3, none⟩) hg2).trans r0
      have r1 := (BL.out.cell (p := ⟨g2, k * 3 + 1, none⟩) hg2).trans r1
      have r2 := (BL.out.cell (p := ⟨g2, k * 3 + 2, none⟩) hg2).trans r2
      clear HC hg hg2
      go_wp2_with fail
      go_quiet (fail)
      go_wp2_with fail
      go_roundw
      case rel => exact ⟨k + 1, by go_num, hlt, hide (below_drewN BL.out _)⟩
      case measure => simp [intOf]; omega
    · have hlt' : ¬ (k : Int) < N := by omega
      clear hlt
      go_wp2_with fail
      refine (KN _).out.mono ?_
      rintro e w3 ⟨rfl, hb⟩
      have B4 := hide (B2.out.trans ((BL.out.mono B2.out.size).trans (hb.mono (Nat.le_trans B2.out.size BL.out.size))))
      clear hb
      go_wp2_with fail
      go_ret
      exact ⟨rfl, B4.out⟩

end Go.Proofs.Ytnkjppclhhjdmaa
