/-
  LexerClassify: the walk.
-/
import Derived.Test.YtnkjppclhhjdmaaRows
import Derived.Test.YtnkjppclhhjdmaaLH
import Derived.WalkKit
import Derived.WalkSpells
import Derived.StillTactics
import Derived.Laws.Pointers
import Derived.Laws.Strings
import Derived.Laws.Strings2
import Derived.Laws.BytesArg
import Derived.LoopTactic
import Derived.Outline
import Derived.Below
import Derived.Laws.Externs
import Derived.Deep.QuietTactic
import Derived.Deep.RegionWith
import Derived.BigQuiet
import Derived.RegionTactic
import Derived.ChangeAlike
import Derived.OwnWalk
import Derived.Laws.OwnMore
import Derived.Laws.Rows
import Derived.Laws.EntriesVeiled
import Derived.Lib.MinMax
import Derived.Lib.Strings
namespace Go.Proofs.Ytnkjppclhhjdmaa
open Go.RowKit
set_option linter.unusedVariables false
set_option linter.unusedSimpArgs false
set_option linter.unnecessarySimpa false

set_option maxHeartbeats 4000000 in
set_option maxRecDepth 20000 in
theorem lexerClassify_walk (s0 : ByteArray) (w : World) (w0 : s0.size ≤ maxLen) : Calls Try.prog 3 #[.string s0] w fun e w' => e = .returned (.bool true) ∧ Below w.heap.size w w' := by
  obtain ⟨n, hn⟩ : ∃ n : Nat, n = min s0.size 100 := ⟨_, rfl⟩
  have en : min (s0.size : Int) 100 = (n : Int) := by omega
  have hn0 : (n : Int) ≤ s0.size := by omega
  have hn1 : (0 : Int) ≤ n := by omega
  have hsz : (s0.extract 0 n).size ≤ 100000 := by rw [ByteArray.size_extract]; omega
  have CA := fun w => hide (classify_any (s0.extract 0 n) w hsz)
  have RK := fun w => hide (rkind_any (s0.extract 0 n) w hsz)
  have KN := fun w => hide (known_any w)
  generalize ((Lx.kindK (bn (s0.extract 0 n)) : Nat) : Int) = K at *
  generalize ((Lx.kindE (bn (s0.extract 0 n)) : Nat) : Int) = E at *
  clear hn hsz
  go_enter Try.func3, Try.ntmps3
  go_wp2_with fail
  refine (CA _).out.mono ?_
  rintro e w1 ⟨rfl, hb⟩
  have B1 := hide hb
  clear hb
  go_wp2_with fail
  refine (RK _).out.mono ?_
  rintro e w2 ⟨rfl, rfl⟩
  go_wp2_with fail
  refine (KN _).out.mono ?_
  rintro e w3 ⟨rfl, hb⟩
  have B2 := hide (B1.out.trans (hb.mono B1.out.size))
  clear hb
  go_wp2_with fail
  go_ret
  exact ⟨rfl, B2.out⟩

end Go.Proofs.Ytnkjppclhhjdmaa
