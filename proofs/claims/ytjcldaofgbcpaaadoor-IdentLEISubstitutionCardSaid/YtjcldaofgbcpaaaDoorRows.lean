/-
  NARROWER THAN 'FOR EVERY INPUT', by the rows' own cells (each row's printed sentence says how): IdentCheck: laid · IdentISINCheckDigit: laid · IdentLEICheckDigits: laid · IdentMakeISIN: laid · IdentISINUnique: laid · IdentLEIUnique: laid · IdentISINSubstitution: laid · IdentLEISubstitution: laid · IdentPrefix: laid.
  DERIVED. THE GIVEN ROWS OF THIS SEAT. 9 by the template 'for every input the law returns true; each argument reads behind the call as it read before'; 0 by the template 'total and deterministic' (their statements: YtjcldaofgbcpaaaDoorTotals.lean).
  GIVEN WITH THE SEED: the statements are not yours to turn. If you find one false, say at which input.
  Laid BY PROGRAM, IN A SANDBOX (cutbox-rows.mjs): the forced cells as the released guide's own fill.sh prints them over the translation 22f272cfc7322ed2… (all of the seat's roots in one cut). By AI agents, Wed Nov 11 2026. No macro, syntax, notation, axiom, sorry.
-/
import Derived.Test.YtjcldaofgbcpaaaDoorChecked
import GoSem.Claim
import GoSem.ClaimJoined
import GoSem.ClaimMapViews
import Derived.JoinedTies
import Derived.KernelRfl
namespace Go.Proofs.YtjcldaofgbcpaaaDoor
/- THE CELL 'sum', in the pinned program and in every row, IS THE sha256 OF THE DUMP (.gsa) THAT YtjcldaofgbcpaaaDoorProg.lean LOADS. Nothing in Lean hashes anything: it is a label: what it is worth is what the hold of that sum in a sandbox is worth. -/
noncomputable def Tryd.pinned : Pinned := { name := "ytjcldaofgbcpaaadoor", sum := "22f272cfc7322ed22d0cd7e8a8ce7a586f3abc02de91cecd4b84332cdd0abc90", checked := Tryd.checked }
namespace Rows
def none {H : Type} : Left H := { results := [], args := [] }

/- WHAT THE LISTED PACKAGE-LEVEL VARIABLES READ AS WHEN THE CALL BEGINS. Each datum BY PROGRAM (the guide's laid-datum.mjs) off the statement by which the dump's own 'gosem.cut.vars' lays the variable. In a bare row this is a premise. The card (YtjcldaofgbcpaaaDoorCards.lean) ties it to the program's text. -/
def laid_giro_ident_shapes {H : Type} : DataW H := .agg [.agg [.lit (.int .i64 12), .lit (.int .i64 12), .lit (.int .i64 2), .lit (.int .i64 1), .lit (.int .i64 0), .lit (.int .i64 2), .lit (.int .i64 1)], .agg [.lit (.int .i64 4), .lit (.int .i64 8), .lit (.int .i64 1), .lit (.int .i64 0), .lit (.int .i64 0), .lit (.int .i64 2), .lit (.int .i64 2)], .agg [.lit (.int .i64 1), .lit (.int .i64 16), .lit (.int .i64 0), .lit (.int .i64 0), .lit (.int .i64 3), .lit (.int .i64 3), .lit (.int .i64 3)], .agg [.lit (.int .i64 20), .lit (.int .i64 20), .lit (.int .i64 0), .lit (.int .i64 2), .lit (.int .i64 2), .lit (.int .i64 2), .lit (.int .i64 1)]]

/-- 'girolaw05.IdentCheck': WHATEVER THE INPUT: true; the input reads as it did. -/
def identCheckSpec : ChangeSpec := { name := "identCheck", fn := fun _ => fun
  | [d1, d2] => { results := [.lit (.bool true)], args := [d1, d2] }
  | _ => none }
def identCheckRow : OpenClaim := { program := "ytjcldaofgbcpaaadoor", sum := "22f272cfc7322ed22d0cd7e8a8ce7a586f3abc02de91cecd4b84332cdd0abc90", func := "giro/girolaw05.IdentCheck", spec := "identCheck", unfollowed := true, recurses := true, named := ["giro/ident.shapes"], apart := false, laid := [("giro/ident.shapes", laid_giro_ident_shapes)] }
def IdentCheckSaid : Prop := identCheckRow.holds Tryd.pinned (OpenSpec.ofChange identCheckSpec)

/-- ITS FALSE NEIGHBOUR: 'it returns false'. Refute it at one input. -/
def identCheckWrong : ChangeSpec := { name := "identCheck", fn := fun _ => fun
  | [d1, d2] => { results := [.lit (.bool false)], args := [d1, d2] }
  | _ => none }
def IdentCheckWrongFalsely : Prop := identCheckRow.holds Tryd.pinned (OpenSpec.ofChange identCheckWrong)

/-- 'girolaw05.IdentISINCheckDigit': WHATEVER THE INPUT: true; the input reads as it did. -/
def identISINCheckDigitSpec : ChangeSpec := { name := "identISINCheckDigit", fn := fun _ => fun
  | [d] => { results := [.lit (.bool true)], args := [d] }
  | _ => none }
def identISINCheckDigitRow : OpenClaim := { program := "ytjcldaofgbcpaaadoor", sum := "22f272cfc7322ed22d0cd7e8a8ce7a586f3abc02de91cecd4b84332cdd0abc90", func := "giro/girolaw05.IdentISINCheckDigit", spec := "identISINCheckDigit", unfollowed := true, recurses := true, named := ["giro/ident.shapes"], apart := false, laid := [("giro/ident.shapes", laid_giro_ident_shapes)] }
def IdentISINCheckDigitSaid : Prop := identISINCheckDigitRow.holds Tryd.pinned (OpenSpec.ofChange identISINCheckDigitSpec)

/-- ITS FALSE NEIGHBOUR: 'it returns false'. Refute it at one input. -/
def identISINCheckDigitWrong : ChangeSpec := { name := "identISINCheckDigit", fn := fun _ => fun
  | [d] => { results := [.lit (.bool false)], args := [d] }
  | _ => none }
def IdentISINCheckDigitWrongFalsely : Prop := identISINCheckDigitRow.holds Tryd.pinned (OpenSpec.ofChange identISINCheckDigitWrong)

/-- 'girolaw05.IdentLEICheckDigits': WHATEVER THE INPUT: true; the input reads as it did. -/
def identLEICheckDigitsSpec : ChangeSpec := { name := "identLEICheckDigits", fn := fun _ => fun
  | [d] => { results := [.lit (.bool true)], args := [d] }
  | _ => none }
def identLEICheckDigitsRow : OpenClaim := { program := "ytjcldaofgbcpaaadoor", sum := "22f272cfc7322ed22d0cd7e8a8ce7a586f3abc02de91cecd4b84332cdd0abc90", func := "giro/girolaw05.IdentLEICheckDigits", spec := "identLEICheckDigits", unfollowed := true, recurses := true, named := ["giro/ident.shapes"], apart := false, laid := [("giro/ident.shapes", laid_giro_ident_shapes)] }
def IdentLEICheckDigitsSaid : Prop := identLEICheckDigitsRow.holds Tryd.pinned (OpenSpec.ofChange identLEICheckDigitsSpec)

/-- ITS FALSE NEIGHBOUR: 'it returns false'. Refute it at one input. -/
def identLEICheckDigitsWrong : ChangeSpec := { name := "identLEICheckDigits", fn := fun _ => fun
  | [d] => { results := [.lit (.bool false)], args := [d] }
  | _ => none }
def IdentLEICheckDigitsWrongFalsely : Prop := identLEICheckDigitsRow.holds Tryd.pinned (OpenSpec.ofChange identLEICheckDigitsWrong)

/-- 'girolaw05.IdentMakeISIN': WHATEVER THE INPUT: true; the input reads as it did. -/
def identMakeISINSpec : ChangeSpec := { name := "identMakeISIN", fn := fun _ => fun
  | [d1, d2] => { results := [.lit (.bool true)], args := [d1, d2] }
  | _ => none }
def identMakeISINRow : OpenClaim := { program := "ytjcldaofgbcpaaadoor", sum := "22f272cfc7322ed22d0cd7e8a8ce7a586f3abc02de91cecd4b84332cdd0abc90", func := "giro/girolaw05.IdentMakeISIN", spec := "identMakeISIN", inPlace := ["internal/abi.NoEscape", "internal/bytealg.MakeNoZero"], unfollowed := true, recurses := true, named := ["giro/ident.shapes"], apart := false, laid := [("giro/ident.shapes", laid_giro_ident_shapes)] }
def IdentMakeISINSaid : Prop := identMakeISINRow.holds Tryd.pinned (OpenSpec.ofChange identMakeISINSpec)

/-- ITS FALSE NEIGHBOUR: 'it returns false'. Refute it at one input. -/
def identMakeISINWrong : ChangeSpec := { name := "identMakeISIN", fn := fun _ => fun
  | [d1, d2] => { results := [.lit (.bool false)], args := [d1, d2] }
  | _ => none }
def IdentMakeISINWrongFalsely : Prop := identMakeISINRow.holds Tryd.pinned (OpenSpec.ofChange identMakeISINWrong)

/-- 'girolaw05.IdentISINUnique': WHATEVER THE INPUT: true; the input reads as it did. -/
def identISINUniqueSpec : ChangeSpec := { name := "identISINUnique", fn := fun _ => fun
  | [d] => { results := [.lit (.bool true)], args := [d] }
  | _ => none }
def identISINUniqueRow : OpenClaim := { program := "ytjcldaofgbcpaaadoor", sum := "22f272cfc7322ed22d0cd7e8a8ce7a586f3abc02de91cecd4b84332cdd0abc90", func := "giro/girolaw05.IdentISINUnique", spec := "identISINUnique", unfollowed := true, recurses := true, named := ["giro/ident.shapes"], apart := false, laid := [("giro/ident.shapes", laid_giro_ident_shapes)] }
def IdentISINUniqueSaid : Prop := identISINUniqueRow.holds Tryd.pinned (OpenSpec.ofChange identISINUniqueSpec)

/-- ITS FALSE NEIGHBOUR: 'it returns false'. Refute it at one input. -/
def identISINUniqueWrong : ChangeSpec := { name := "identISINUnique", fn := fun _ => fun
  | [d] => { results := [.lit (.bool false)], args := [d] }
  | _ => none }
def IdentISINUniqueWrongFalsely : Prop := identISINUniqueRow.holds Tryd.pinned (OpenSpec.ofChange identISINUniqueWrong)

/-- 'girolaw05.IdentLEIUnique': WHATEVER THE INPUT: true; the input reads as it did. -/
def identLEIUniqueSpec : ChangeSpec := { name := "identLEIUnique", fn := fun _ => fun
  | [d] => { results := [.lit (.bool true)], args := [d] }
  | _ => none }
def identLEIUniqueRow : OpenClaim := { program := "ytjcldaofgbcpaaadoor", sum := "22f272cfc7322ed22d0cd7e8a8ce7a586f3abc02de91cecd4b84332cdd0abc90", func := "giro/girolaw05.IdentLEIUnique", spec := "identLEIUnique", unfollowed := true, recurses := true, named := ["giro/ident.shapes"], apart := false, laid := [("giro/ident.shapes", laid_giro_ident_shapes)] }
def IdentLEIUniqueSaid : Prop := identLEIUniqueRow.holds Tryd.pinned (OpenSpec.ofChange identLEIUniqueSpec)

/-- ITS FALSE NEIGHBOUR: 'it returns false'. Refute it at one input. -/
def identLEIUniqueWrong : ChangeSpec := { name := "identLEIUnique", fn := fun _ => fun
  | [d] => { results := [.lit (.bool false)], args := [d] }
  | _ => none }
def IdentLEIUniqueWrongFalsely : Prop := identLEIUniqueRow.holds Tryd.pinned (OpenSpec.ofChange identLEIUniqueWrong)

/-- 'girolaw05.IdentISINSubstitution': WHATEVER THE INPUT: true; the input reads as it did. -/
def identISINSubstitutionSpec : ChangeSpec := { name := "identISINSubstitution", fn := fun _ => fun
  | [d1, d2, d3] => { results := [.lit (.bool true)], args := [d1, d2, d3] }
  | _ => none }
def identISINSubstitutionRow : OpenClaim := { program := "ytjcldaofgbcpaaadoor", sum := "22f272cfc7322ed22d0cd7e8a8ce7a586f3abc02de91cecd4b84332cdd0abc90", func := "giro/girolaw05.IdentISINSubstitution", spec := "identISINSubstitution", unfollowed := true, recurses := true, named := ["giro/ident.shapes"], apart := false, laid := [("giro/ident.shapes", laid_giro_ident_shapes)] }
def IdentISINSubstitutionSaid : Prop := identISINSubstitutionRow.holds Tryd.pinned (OpenSpec.ofChange identISINSubstitutionSpec)

/-- ITS FALSE NEIGHBOUR: 'it returns false'. Refute it at one input. -/
def identISINSubstitutionWrong : ChangeSpec := { name := "identISINSubstitution", fn := fun _ => fun
  | [d1, d2, d3] => { results := [.lit (.bool false)], args := [d1, d2, d3] }
  | _ => none }
def IdentISINSubstitutionWrongFalsely : Prop := identISINSubstitutionRow.holds Tryd.pinned (OpenSpec.ofChange identISINSubstitutionWrong)

/-- 'girolaw05.IdentLEISubstitution': WHATEVER THE INPUT: true; the input reads as it did. -/
def identLEISubstitutionSpec : ChangeSpec := { name := "identLEISubstitution", fn := fun _ => fun
  | [d1, d2, d3] => { results := [.lit (.bool true)], args := [d1, d2, d3] }
  | _ => none }
def identLEISubstitutionRow : OpenClaim := { program := "ytjcldaofgbcpaaadoor", sum := "22f272cfc7322ed22d0cd7e8a8ce7a586f3abc02de91cecd4b84332cdd0abc90", func := "giro/girolaw05.IdentLEISubstitution", spec := "identLEISubstitution", unfollowed := true, recurses := true, named := ["giro/ident.shapes"], apart := false, laid := [("giro/ident.shapes", laid_giro_ident_shapes)] }
def IdentLEISubstitutionSaid : Prop := identLEISubstitutionRow.holds Tryd.pinned (OpenSpec.ofChange identLEISubstitutionSpec)

/-- ITS FALSE NEIGHBOUR: 'it returns false'. Refute it at one input. -/
def identLEISubstitutionWrong : ChangeSpec := { name := "identLEISubstitution", fn := fun _ => fun
  | [d1, d2, d3] => { results := [.lit (.bool false)], args := [d1, d2, d3] }
  | _ => none }
def IdentLEISubstitutionWrongFalsely : Prop := identLEISubstitutionRow.holds Tryd.pinned (OpenSpec.ofChange identLEISubstitutionWrong)

/-- 'girolaw05.IdentPrefix': WHATEVER THE INPUT: true; the input reads as it did. -/
def identPrefixSpec : ChangeSpec := { name := "identPrefix", fn := fun _ => fun
  | [d1, d2, d3] => { results := [.lit (.bool true)], args := [d1, d2, d3] }
  | _ => none }
def identPrefixRow : OpenClaim := { program := "ytjcldaofgbcpaaadoor", sum := "22f272cfc7322ed22d0cd7e8a8ce7a586f3abc02de91cecd4b84332cdd0abc90", func := "giro/girolaw05.IdentPrefix", spec := "identPrefix", unfollowed := true, recurses := true, named := ["giro/ident.shapes"], apart := false, laid := [("giro/ident.shapes", laid_giro_ident_shapes)] }
def IdentPrefixSaid : Prop := identPrefixRow.holds Tryd.pinned (OpenSpec.ofChange identPrefixSpec)

/-- ITS FALSE NEIGHBOUR: 'it returns false'. Refute it at one input. -/
def identPrefixWrong : ChangeSpec := { name := "identPrefix", fn := fun _ => fun
  | [d1, d2, d3] => { results := [.lit (.bool false)], args := [d1, d2, d3] }
  | _ => none }
def IdentPrefixWrongFalsely : Prop := identPrefixRow.holds Tryd.pinned (OpenSpec.ofChange identPrefixWrong)

/- THE SECOND FORM. 'bulk': how many values and letters a reading holds, each counted each time it is reached (what is shared counts as often as it is met; a slice's spare places count too). A statement '..UptoSaid' is the law's where the arguments, and the package variables that the reading takes, are together of bulk at most 1048576: NARROWER than '..Said'. Prove '..Said' where nothing that the law and all that it calls make is longer than what came in: it says more and counts as full. Else prove '..UptoSaid'. A law counts once. -/
mutual
def uptoBulk {H : Type} : DataW H → Nat
  | .lit (.string bytes) => bytes.length + 1
  | .lit _ => 1
  | .nil => 1
  | .ptr d => uptoBulk d + 1
  | .slice elems spare => uptoBulkAll elems + uptoBulkAll spare + 1
  | .agg parts => uptoBulkAll parts + 1
  | .iface _ d => uptoBulk d + 1
  | .map entries => uptoBulkEntries entries + 1
  | .held _ => 1
def uptoBulkAll {H : Type} : List (DataW H) → Nat
  | [] => 0
  | d :: r => uptoBulk d + uptoBulkAll r
def uptoBulkEntries {H : Type} : List (Lit × DataW H) → Nat
  | [] => 0
  | x :: r => uptoBulkEntry x + uptoBulkEntries r
def uptoBulkEntry {H : Type} : Lit × DataW H → Nat
  | (.string bytes, d) => bytes.length + uptoBulk d + 1
  | (_, d) => uptoBulk d + 1
 end
def uptoSmall : (H : Type) → List (DataW H) → Bool := fun _ ds => decide (uptoBulkAll ds ≤ 1048576)
def OpenSpec.upto (s : _root_.Go.ChangeSpec) : _root_.Go.OpenSpec := { _root_.Go.OpenSpec.ofChange s with cond := some uptoSmall }

/-- 'girolaw05.IdentCheck', WHERE WHAT IT READS IS OF BULK AT MOST 1048576: true; the input reads as it did. -/
def identCheckUptoRow : OpenClaim := { program := "ytjcldaofgbcpaaadoor", sum := "22f272cfc7322ed22d0cd7e8a8ce7a586f3abc02de91cecd4b84332cdd0abc90", func := "giro/girolaw05.IdentCheck", spec := "identCheck", unfollowed := true, recurses := true, named := ["giro/ident.shapes"], apart := false, laid := [("giro/ident.shapes", laid_giro_ident_shapes)], narrowed := true }
def IdentCheckUptoSaid : Prop := identCheckUptoRow.holds Tryd.pinned (OpenSpec.upto identCheckSpec)

/-- 'girolaw05.IdentISINCheckDigit', WHERE WHAT IT READS IS OF BULK AT MOST 1048576: true; the input reads as it did. -/
def identISINCheckDigitUptoRow : OpenClaim := { program := "ytjcldaofgbcpaaadoor", sum := "22f272cfc7322ed22d0cd7e8a8ce7a586f3abc02de91cecd4b84332cdd0abc90", func := "giro/girolaw05.IdentISINCheckDigit", spec := "identISINCheckDigit", unfollowed := true, recurses := true, named := ["giro/ident.shapes"], apart := false, laid := [("giro/ident.shapes", laid_giro_ident_shapes)], narrowed := true }
def IdentISINCheckDigitUptoSaid : Prop := identISINCheckDigitUptoRow.holds Tryd.pinned (OpenSpec.upto identISINCheckDigitSpec)

/-- 'girolaw05.IdentLEICheckDigits', WHERE WHAT IT READS IS OF BULK AT MOST 1048576: true; the input reads as it did. -/
def identLEICheckDigitsUptoRow : OpenClaim := { program := "ytjcldaofgbcpaaadoor", sum := "22f272cfc7322ed22d0cd7e8a8ce7a586f3abc02de91cecd4b84332cdd0abc90", func := "giro/girolaw05.IdentLEICheckDigits", spec := "identLEICheckDigits", unfollowed := true, recurses := true, named := ["giro/ident.shapes"], apart := false, laid := [("giro/ident.shapes", laid_giro_ident_shapes)], narrowed := true }
def IdentLEICheckDigitsUptoSaid : Prop := identLEICheckDigitsUptoRow.holds Tryd.pinned (OpenSpec.upto identLEICheckDigitsSpec)

/-- 'girolaw05.IdentMakeISIN', WHERE WHAT IT READS IS OF BULK AT MOST 1048576: true; the input reads as it did. -/
def identMakeISINUptoRow : OpenClaim := { program := "ytjcldaofgbcpaaadoor", sum := "22f272cfc7322ed22d0cd7e8a8ce7a586f3abc02de91cecd4b84332cdd0abc90", func := "giro/girolaw05.IdentMakeISIN", spec := "identMakeISIN", inPlace := ["internal/abi.NoEscape", "internal/bytealg.MakeNoZero"], unfollowed := true, recurses := true, named := ["giro/ident.shapes"], apart := false, laid := [("giro/ident.shapes", laid_giro_ident_shapes)], narrowed := true }
def IdentMakeISINUptoSaid : Prop := identMakeISINUptoRow.holds Tryd.pinned (OpenSpec.upto identMakeISINSpec)

/-- 'girolaw05.IdentISINUnique', WHERE WHAT IT READS IS OF BULK AT MOST 1048576: true; the input reads as it did. -/
def identISINUniqueUptoRow : OpenClaim := { program := "ytjcldaofgbcpaaadoor", sum := "22f272cfc7322ed22d0cd7e8a8ce7a586f3abc02de91cecd4b84332cdd0abc90", func := "giro/girolaw05.IdentISINUnique", spec := "identISINUnique", unfollowed := true, recurses := true, named := ["giro/ident.shapes"], apart := false, laid := [("giro/ident.shapes", laid_giro_ident_shapes)], narrowed := true }
def IdentISINUniqueUptoSaid : Prop := identISINUniqueUptoRow.holds Tryd.pinned (OpenSpec.upto identISINUniqueSpec)

/-- 'girolaw05.IdentLEIUnique', WHERE WHAT IT READS IS OF BULK AT MOST 1048576: true; the input reads as it did. -/
def identLEIUniqueUptoRow : OpenClaim := { program := "ytjcldaofgbcpaaadoor", sum := "22f272cfc7322ed22d0cd7e8a8ce7a586f3abc02de91cecd4b84332cdd0abc90", func := "giro/girolaw05.IdentLEIUnique", spec := "identLEIUnique", unfollowed := true, recurses := true, named := ["giro/ident.shapes"], apart := false, laid := [("giro/ident.shapes", laid_giro_ident_shapes)], narrowed := true }
def IdentLEIUniqueUptoSaid : Prop := identLEIUniqueUptoRow.holds Tryd.pinned (OpenSpec.upto identLEIUniqueSpec)

/-- 'girolaw05.IdentISINSubstitution', WHERE WHAT IT READS IS OF BULK AT MOST 1048576: true; the input reads as it did. -/
def identISINSubstitutionUptoRow : OpenClaim := { program := "ytjcldaofgbcpaaadoor", sum := "22f272cfc7322ed22d0cd7e8a8ce7a586f3abc02de91cecd4b84332cdd0abc90", func := "giro/girolaw05.IdentISINSubstitution", spec := "identISINSubstitution", unfollowed := true, recurses := true, named := ["giro/ident.shapes"], apart := false, laid := [("giro/ident.shapes", laid_giro_ident_shapes)], narrowed := true }
def IdentISINSubstitutionUptoSaid : Prop := identISINSubstitutionUptoRow.holds Tryd.pinned (OpenSpec.upto identISINSubstitutionSpec)

/-- 'girolaw05.IdentLEISubstitution', WHERE WHAT IT READS IS OF BULK AT MOST 1048576: true; the input reads as it did. -/
def identLEISubstitutionUptoRow : OpenClaim := { program := "ytjcldaofgbcpaaadoor", sum := "22f272cfc7322ed22d0cd7e8a8ce7a586f3abc02de91cecd4b84332cdd0abc90", func := "giro/girolaw05.IdentLEISubstitution", spec := "identLEISubstitution", unfollowed := true, recurses := true, named := ["giro/ident.shapes"], apart := false, laid := [("giro/ident.shapes", laid_giro_ident_shapes)], narrowed := true }
def IdentLEISubstitutionUptoSaid : Prop := identLEISubstitutionUptoRow.holds Tryd.pinned (OpenSpec.upto identLEISubstitutionSpec)

/-- 'girolaw05.IdentPrefix', WHERE WHAT IT READS IS OF BULK AT MOST 1048576: true; the input reads as it did. -/
def identPrefixUptoRow : OpenClaim := { program := "ytjcldaofgbcpaaadoor", sum := "22f272cfc7322ed22d0cd7e8a8ce7a586f3abc02de91cecd4b84332cdd0abc90", func := "giro/girolaw05.IdentPrefix", spec := "identPrefix", unfollowed := true, recurses := true, named := ["giro/ident.shapes"], apart := false, laid := [("giro/ident.shapes", laid_giro_ident_shapes)], narrowed := true }
def IdentPrefixUptoSaid : Prop := identPrefixUptoRow.holds Tryd.pinned (OpenSpec.upto identPrefixSpec)

end Rows
end Go.Proofs.YtjcldaofgbcpaaaDoor
