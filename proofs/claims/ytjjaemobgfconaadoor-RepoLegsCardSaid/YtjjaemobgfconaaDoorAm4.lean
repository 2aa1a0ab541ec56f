/-
  Contract of the rounding of a quotient (amount's method round) at this translation. Conditions: the parts of the quotient are below 2^62.
-/
import Derived.Test.YtjjaemobgfconaaDoorAm3
import Derived.Laws.EntriesVeiled
import Derived.WalkLawsBesides
namespace Go.Proofs.YtjjaemobgfconaaDoor
open Go.RowKit

/-- Whether a quotient is rounded away from zero. -/
def upB (neg : Bool) (size rest den mode : Int) : Bool :=
  decide (0 < rest) && (if mode = 0 then neg else if mode = 1 then !neg else if mode = 2 then decide (den < 2 * rest) || (decide (2 * rest = den) && decide (size % 2 = 1)) else false)
/-- The rounded quotient. -/
def rnd (neg : Bool) (size rest den mode : Int) : Int := if neg then -(if upB neg size rest den mode then size + 1 else size) else (if upB neg size rest den mode then size + 1 else size)

end Go.Proofs.YtjjaemobgfconaaDoor
