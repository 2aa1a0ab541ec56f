/-
  NARROWER THAN 'FOR EVERY INPUT', by the rows' own cells (each row's printed sentence says how): PartialAllowed: laid · PartialSplit: laid · PartialAddUp: laid · PartialLargest: laid · PartialMaximal: laid · PartialLargestMonotone: laid.
  DERIVED. THE GIVEN ROWS OF THIS SEAT. 6 by the template 'for every input the law returns true; each argument reads behind the call as it read before'; 0 by the template 'total and deterministic' (their statements: YtipgpmjhoaenlaaDoorTotals.lean).
  GIVEN WITH THE SEED: the statements are not yours to turn. If you find one false, say at which input.
  Laid BY PROGRAM, IN A SANDBOX (cutbox-rows.mjs): the forced cells as the released guide's own fill.sh prints them over the translation 74545cc380b75150… (all of the seat's roots in one cut). By AI agents, Wed Nov 11 2026. No macro, syntax, notation, axiom, sorry.
-/
import Derived.Test.YtipgpmjhoaenlaaDoorChecked
import GoSem.Claim
import GoSem.ClaimJoined
import GoSem.ClaimMapViews
import Derived.JoinedTies
import Derived.KernelRfl
namespace Go.Proofs.YtipgpmjhoaenlaaDoor
/- THE CELL 'sum', in the pinned program and in every row, IS THE sha256 OF THE DUMP (.gsa) THAT YtipgpmjhoaenlaaDoorProg.lean LOADS. Nothing in Lean hashes anything: it is a label: what it is worth is what the hold of that sum in a sandbox is worth. -/
noncomputable def Tryd.pinned : Pinned := { name := "ytipgpmjhoaenlaadoor", sum := "74545cc380b75150e1c442a618b85333905aede3c12af2c7ba5b62588d90de53", checked := Tryd.checked }
namespace Rows
def none {H : Type} : Left H := { results := [], args := [] }

/- WHAT THE LISTED PACKAGE-LEVEL VARIABLES READ AS WHEN THE CALL BEGINS. Each datum BY PROGRAM (the guide's laid-datum.mjs) off the statement by which the dump's own 'gosem.cut.vars' lays the variable. In a bare row this is a premise. The card (YtipgpmjhoaenlaaDoorCards.lean) ties it to the program's text. -/
def laid_giro_ident_shapes {H : Type} : DataW H := .agg [.agg [.lit (.int .i64 12), .lit (.int .i64 12), .lit (.int .i64 2), .lit (.int .i64 1), .lit (.int .i64 0), .lit (.int .i64 2), .lit (.int .i64 1)], .agg [.lit (.int .i64 4), .lit (.int .i64 8), .lit (.int .i64 1), .lit (.int .i64 0), .lit (.int .i64 0), .lit (.int .i64 2), .lit (.int .i64 2)], .agg [.lit (.int .i64 1), .lit (.int .i64 16), .lit (.int .i64 0), .lit (.int .i64 0), .lit (.int .i64 3), .lit (.int .i64 3), .lit (.int .i64 3)], .agg [.lit (.int .i64 20), .lit (.int .i64 20), .lit (.int .i64 0), .lit (.int .i64 2), .lit (.int .i64 2), .lit (.int .i64 2), .lit (.int .i64 1)]]

/-- 'girolaw37.PartialAllowed': WHATEVER THE INPUT: true; the input reads as it did. -/
def partialAllowedSpec : ChangeSpec := { name := "partialAllowed", fn := fun _ => fun
  | [d1, d2] => { results := [.lit (.bool true)], args := [d1, d2] }
  | _ => none }
def partialAllowedRow : OpenClaim := { program := "ytipgpmjhoaenlaadoor", sum := "74545cc380b75150e1c442a618b85333905aede3c12af2c7ba5b62588d90de53", func := "giro/girolaw37.PartialAllowed", spec := "partialAllowed", unfollowed := true, recurses := true, named := ["giro/ident.shapes", "math/bits.divideError", "math/bits.overflowError"], apart := false, laid := [("giro/ident.shapes", laid_giro_ident_shapes)] }
def PartialAllowedSaid : Prop := partialAllowedRow.holds Tryd.pinned (OpenSpec.ofChange partialAllowedSpec)

/-- ITS FALSE NEIGHBOUR: 'it returns false'. Refute it at one input. -/
def partialAllowedWrong : ChangeSpec := { name := "partialAllowed", fn := fun _ => fun
  | [d1, d2] => { results := [.lit (.bool false)], args := [d1, d2] }
  | _ => none }
def PartialAllowedWrongFalsely : Prop := partialAllowedRow.holds Tryd.pinned (OpenSpec.ofChange partialAllowedWrong)

/-- 'girolaw37.PartialSplit': WHATEVER THE INPUT: true; the input reads as it did. -/
def partialSplitSpec : ChangeSpec := { name := "partialSplit", fn := fun _ => fun
  | [d1, d2] => { results := [.lit (.bool true)], args := [d1, d2] }
  | _ => none }
def partialSplitRow : OpenClaim := { program := "ytipgpmjhoaenlaadoor", sum := "74545cc380b75150e1c442a618b85333905aede3c12af2c7ba5b62588d90de53", func := "giro/girolaw37.PartialSplit", spec := "partialSplit", unfollowed := true, recurses := true, named := ["giro/ident.shapes", "math/bits.divideError", "math/bits.overflowError"], apart := false, laid := [("giro/ident.shapes", laid_giro_ident_shapes)] }
def PartialSplitSaid : Prop := partialSplitRow.holds Tryd.pinned (OpenSpec.ofChange partialSplitSpec)

/-- ITS FALSE NEIGHBOUR: 'it returns false'. Refute it at one input. -/
def partialSplitWrong : ChangeSpec := { name := "partialSplit", fn := fun _ => fun
  | [d1, d2] => { results := [.lit (.bool false)], args := [d1, d2] }
  | _ => none }
def PartialSplitWrongFalsely : Prop := partialSplitRow.holds Tryd.pinned (OpenSpec.ofChange partialSplitWrong)

/-- 'girolaw37.PartialAddUp': WHATEVER THE INPUT: true; the input reads as it did. -/
def partialAddUpSpec : ChangeSpec := { name := "partialAddUp", fn := fun _ => fun
  | [d1, d2] => { results := [.lit (.bool true)], args := [d1, d2] }
  | _ => none }
def partialAddUpRow : OpenClaim := { program := "ytipgpmjhoaenlaadoor", sum := "74545cc380b75150e1c442a618b85333905aede3c12af2c7ba5b62588d90de53", func := "giro/girolaw37.PartialAddUp", spec := "partialAddUp", unfollowed := true, recurses := true, named := ["giro/ident.shapes", "math/bits.divideError", "math/bits.overflowError"], apart := false, laid := [("giro/ident.shapes", laid_giro_ident_shapes)] }
def PartialAddUpSaid : Prop := partialAddUpRow.holds Tryd.pinned (OpenSpec.ofChange partialAddUpSpec)

/-- ITS FALSE NEIGHBOUR: 'it returns false'. Refute it at one input. -/
def partialAddUpWrong : ChangeSpec := { name := "partialAddUp", fn := fun _ => fun
  | [d1, d2] => { results := [.lit (.bool false)], args := [d1, d2] }
  | _ => none }
def PartialAddUpWrongFalsely : Prop := partialAddUpRow.holds Tryd.pinned (OpenSpec.ofChange partialAddUpWrong)

/-- 'girolaw37.PartialLargest': WHATEVER THE INPUT: true; the input reads as it did. -/
def partialLargestSpec : ChangeSpec := { name := "partialLargest", fn := fun _ => fun
  | [d1, d2, d3] => { results := [.lit (.bool true)], args := [d1, d2, d3] }
  | _ => none }
def partialLargestRow : OpenClaim := { program := "ytipgpmjhoaenlaadoor", sum := "74545cc380b75150e1c442a618b85333905aede3c12af2c7ba5b62588d90de53", func := "giro/girolaw37.PartialLargest", spec := "partialLargest", unfollowed := true, recurses := true, named := ["giro/ident.shapes", "math/bits.divideError", "math/bits.overflowError"], apart := false, laid := [("giro/ident.shapes", laid_giro_ident_shapes)] }
def PartialLargestSaid : Prop := partialLargestRow.holds Tryd.pinned (OpenSpec.ofChange partialLargestSpec)

/-- ITS FALSE NEIGHBOUR: 'it returns false'. Refute it at one input. -/
def partialLargestWrong : ChangeSpec := { name := "partialLargest", fn := fun _ => fun
  | [d1, d2, d3] => { results := [.lit (.bool false)], args := [d1, d2, d3] }
  | _ => none }
def PartialLargestWrongFalsely : Prop := partialLargestRow.holds Tryd.pinned (OpenSpec.ofChange partialLargestWrong)

/-- 'girolaw37.PartialMaximal': WHATEVER THE INPUT: true; the input reads as it did. -/
def partialMaximalSpec : ChangeSpec := { name := "partialMaximal", fn := fun _ => fun
  | [d1, d2, d3] => { results := [.lit (.bool true)], args := [d1, d2, d3] }
  | _ => none }
def partialMaximalRow : OpenClaim := { program := "ytipgpmjhoaenlaadoor", sum := "74545cc380b75150e1c442a618b85333905aede3c12af2c7ba5b62588d90de53", func := "giro/girolaw37.PartialMaximal", spec := "partialMaximal", unfollowed := true, recurses := true, named := ["giro/ident.shapes", "math/bits.divideError", "math/bits.overflowError"], apart := false, laid := [("giro/ident.shapes", laid_giro_ident_shapes)] }
def PartialMaximalSaid : Prop := partialMaximalRow.holds Tryd.pinned (OpenSpec.ofChange partialMaximalSpec)

/-- ITS FALSE NEIGHBOUR: 'it returns false'. Refute it at one input. -/
def partialMaximalWrong : ChangeSpec := { name := "partialMaximal", fn := fun _ => fun
  | [d1, d2, d3] => { results := [.lit (.bool false)], args := [d1, d2, d3] }
  | _ => none }
def PartialMaximalWrongFalsely : Prop := partialMaximalRow.holds Tryd.pinned (OpenSpec.ofChange partialMaximalWrong)

/-- 'girolaw37.PartialLargestMonotone': WHATEVER THE INPUT: true; the input reads as it did. -/
def partialLargestMonotoneSpec : ChangeSpec := { name := "partialLargestMonotone", fn := fun _ => fun
  | [d1, d2, d3, d4, d5] => { results := [.lit (.bool true)], args := [d1, d2, d3, d4, d5] }
  | _ => none }
def partialLargestMonotoneRow : OpenClaim := { program := "ytipgpmjhoaenlaadoor", sum := "74545cc380b75150e1c442a618b85333905aede3c12af2c7ba5b62588d90de53", func := "giro/girolaw37.PartialLargestMonotone", spec := "partialLargestMonotone", unfollowed := true, recurses := true, named := ["giro/ident.shapes", "math/bits.divideError", "math/bits.overflowError"], apart := false, laid := [("giro/ident.shapes", laid_giro_ident_shapes)] }
def PartialLargestMonotoneSaid : Prop := partialLargestMonotoneRow.holds Tryd.pinned (OpenSpec.ofChange partialLargestMonotoneSpec)

/-- ITS FALSE NEIGHBOUR: 'it returns false'. Refute it at one input. -/
def partialLargestMonotoneWrong : ChangeSpec := { name := "partialLargestMonotone", fn := fun _ => fun
  | [d1, d2, d3, d4, d5] => { results := [.lit (.bool false)], args := [d1, d2, d3, d4, d5] }
  | _ => none }
def PartialLargestMonotoneWrongFalsely : Prop := partialLargestMonotoneRow.holds Tryd.pinned (OpenSpec.ofChange partialLargestMonotoneWrong)

/- THE SECOND FORM. 'bulk': how many values and letters a reading holds, each counted each time it is reached (what is shared counts as often as it is met; a slice's spare places count too). A statement '..UptoSaid' is the law's where the arguments, and the package variables that the reading takes, are together of bulk at most 1048576: NARROWER than '..Said'. Prove '..Said' where nothing that the law and all that it calls make is longer than what came in: it says more and counts as full. Else prove '..UptoSaid'. A law counts once. -/
mutual
def uptoBulk {H : Type} : DataW H → Nat
  | .lit (.string bytes) => bytes.length + 1
  | .lit _ => 1
  | .nil => 1
  | .ptr d => uptoBulk d + 1
  | .slice elems spare => uptoBulkAll elems + uptoBulkAll spare + 1
  | .agg parts => uptoBulkAll parts + 1
  | .iface _ d => uptoBulk d + 1
  | .map entries => uptoBulkEntries entries + 1
  | .held _ => 1
def uptoBulkAll {H : Type} : List (DataW H) → Nat
  | [] => 0
  | d :: r => uptoBulk d + uptoBulkAll r
def uptoBulkEntries {H : Type} : List (Lit × DataW H) → Nat
  | [] => 0
  | x :: r => uptoBulkEntry x + uptoBulkEntries r
def uptoBulkEntry {H : Type} : Lit × DataW H → Nat
  | (.string bytes, d) => bytes.length + uptoBulk d + 1
  | (_, d) => uptoBulk d + 1
 end
def uptoSmall : (H : Type) → List (DataW H) → Bool := fun _ ds => decide (uptoBulkAll ds ≤ 1048576)
def OpenSpec.upto (s : _root_.Go.ChangeSpec) : _root_.Go.OpenSpec := { _root_.Go.OpenSpec.ofChange s with cond := some uptoSmall }

/-- 'girolaw37.PartialAllowed', WHERE WHAT IT READS IS OF BULK AT MOST 1048576: true; the input reads as it did. -/
def partialAllowedUptoRow : OpenClaim := { program := "ytipgpmjhoaenlaadoor", sum := "74545cc380b75150e1c442a618b85333905aede3c12af2c7ba5b62588d90de53", func := "giro/girolaw37.PartialAllowed", spec := "partialAllowed", unfollowed := true, recurses := true, named := ["giro/ident.shapes", "math/bits.divideError", "math/bits.overflowError"], apart := false, laid := [("giro/ident.shapes", laid_giro_ident_shapes)], narrowed := true }
def PartialAllowedUptoSaid : Prop := partialAllowedUptoRow.holds Tryd.pinned (OpenSpec.upto partialAllowedSpec)

/-- 'girolaw37.PartialSplit', WHERE WHAT IT READS IS OF BULK AT MOST 1048576: true; the input reads as it did. -/
def partialSplitUptoRow : OpenClaim := { program := "ytipgpmjhoaenlaadoor", sum := "74545cc380b75150e1c442a618b85333905aede3c12af2c7ba5b62588d90de53", func := "giro/girolaw37.PartialSplit", spec := "partialSplit", unfollowed := true, recurses := true, named := ["giro/ident.shapes", "math/bits.divideError", "math/bits.overflowError"], apart := false, laid := [("giro/ident.shapes", laid_giro_ident_shapes)], narrowed := true }
def PartialSplitUptoSaid : Prop := partialSplitUptoRow.holds Tryd.pinned (OpenSpec.upto partialSplitSpec)

/-- 'girolaw37.PartialAddUp', WHERE WHAT IT READS IS OF BULK AT MOST 1048576: true; the input reads as it did. -/
def partialAddUpUptoRow : OpenClaim := { program := "ytipgpmjhoaenlaadoor", sum := "74545cc380b75150e1c442a618b85333905aede3c12af2c7ba5b62588d90de53", func := "giro/girolaw37.PartialAddUp", spec := "partialAddUp", unfollowed := true, recurses := true, named := ["giro/ident.shapes", "math/bits.divideError", "math/bits.overflowError"], apart := false, laid := [("giro/ident.shapes", laid_giro_ident_shapes)], narrowed := true }
def PartialAddUpUptoSaid : Prop := partialAddUpUptoRow.holds Tryd.pinned (OpenSpec.upto partialAddUpSpec)

/-- 'girolaw37.PartialLargest', WHERE WHAT IT READS IS OF BULK AT MOST 1048576: true; the input reads as it did. -/
def partialLargestUptoRow : OpenClaim := { program := "ytipgpmjhoaenlaadoor", sum := "74545cc380b75150e1c442a618b85333905aede3c12af2c7ba5b62588d90de53", func := "giro/girolaw37.PartialLargest", spec := "partialLargest", unfollowed := true, recurses := true, named := ["giro/ident.shapes", "math/bits.divideError", "math/bits.overflowError"], apart := false, laid := [("giro/ident.shapes", laid_giro_ident_shapes)], narrowed := true }
def PartialLargestUptoSaid : Prop := partialLargestUptoRow.holds Tryd.pinned (OpenSpec.upto partialLargestSpec)

/-- 'girolaw37.PartialMaximal', WHERE WHAT IT READS IS OF BULK AT MOST 1048576: true; the input reads as it did. -/
def partialMaximalUptoRow : OpenClaim := { program := "ytipgpmjhoaenlaadoor", sum := "74545cc380b75150e1c442a618b85333905aede3c12af2c7ba5b62588d90de53", func := "giro/girolaw37.PartialMaximal", spec := "partialMaximal", unfollowed := true, recurses := true, named := ["giro/ident.shapes", "math/bits.divideError", "math/bits.overflowError"], apart := false, laid := [("giro/ident.shapes", laid_giro_ident_shapes)], narrowed := true }
def PartialMaximalUptoSaid : Prop := partialMaximalUptoRow.holds Tryd.pinned (OpenSpec.upto partialMaximalSpec)

/-- 'girolaw37.PartialLargestMonotone', WHERE WHAT IT READS IS OF BULK AT MOST 1048576: true; the input reads as it did. -/
def partialLargestMonotoneUptoRow : OpenClaim := { program := "ytipgpmjhoaenlaadoor", sum := "74545cc380b75150e1c442a618b85333905aede3c12af2c7ba5b62588d90de53", func := "giro/girolaw37.PartialLargestMonotone", spec := "partialLargestMonotone", unfollowed := true, recurses := true, named := ["giro/ident.shapes", "math/bits.divideError", "math/bits.overflowError"], apart := false, laid := [("giro/ident.shapes", laid_giro_ident_shapes)], narrowed := true }
def PartialLargestMonotoneUptoSaid : Prop := partialLargestMonotoneUptoRow.holds Tryd.pinned (OpenSpec.upto partialLargestMonotoneSpec)

end Rows
end Go.Proofs.YtipgpmjhoaenlaaDoor
