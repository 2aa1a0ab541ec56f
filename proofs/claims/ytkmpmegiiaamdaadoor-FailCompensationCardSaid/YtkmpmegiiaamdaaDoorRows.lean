/-
  NARROWER THAN 'FOR EVERY INPUT', by the rows' own cells (each row's printed sentence says how): FailCheck: laid · FailPenalty: laid · FailMonotone: laid · FailCompensation: laid.
  DERIVED. THE GIVEN ROWS OF THIS SEAT. 4 by the template 'for every input the law returns true; each argument reads behind the call as it read before'; 0 by the template 'total and deterministic' (their statements: YtkmpmegiiaamdaaDoorTotals.lean).
  GIVEN WITH THE SEED: the statements are not yours to turn. If you find one false, say at which input.
  Laid BY PROGRAM, IN A SANDBOX (cutbox-rows.mjs): the forced cells as the released guide's own fill.sh prints them over the translation da975ffb04b8b0e8… (all of the seat's roots in one cut). By AI agents, Wed Nov 11 2026. No macro, syntax, notation, axiom, sorry.
-/
import Derived.Test.YtkmpmegiiaamdaaDoorChecked
import GoSem.Claim
import GoSem.ClaimJoined
import GoSem.ClaimMapViews
import Derived.JoinedTies
import Derived.KernelRfl
namespace Go.Proofs.YtkmpmegiiaamdaaDoor
/- THE CELL 'sum', in the pinned program and in every row, IS THE sha256 OF THE DUMP (.gsa) THAT YtkmpmegiiaamdaaDoorProg.lean LOADS. Nothing in Lean hashes anything: it is a label: what it is worth is what the hold of that sum in a sandbox is worth. -/
noncomputable def Tryd.pinned : Pinned := { name := "ytkmpmegiiaamdaadoor", sum := "da975ffb04b8b0e82180f3bc58f49db4e9f476d4a4d9f5d94f4a8da37ad79181", checked := Tryd.checked }
namespace Rows
def none {H : Type} : Left H := { results := [], args := [] }

/- WHAT THE LISTED PACKAGE-LEVEL VARIABLES READ AS WHEN THE CALL BEGINS. Each datum BY PROGRAM (the guide's laid-datum.mjs) off the statement by which the dump's own 'gosem.cut.vars' lays the variable. In a bare row this is a premise. The card (YtkmpmegiiaamdaaDoorCards.lean) ties it to the program's text. -/
def laid_giro_ident_shapes {H : Type} : DataW H := .agg [.agg [.lit (.int .i64 12), .lit (.int .i64 12), .lit (.int .i64 2), .lit (.int .i64 1), .lit (.int .i64 0), .lit (.int .i64 2), .lit (.int .i64 1)], .agg [.lit (.int .i64 4), .lit (.int .i64 8), .lit (.int .i64 1), .lit (.int .i64 0), .lit (.int .i64 0), .lit (.int .i64 2), .lit (.int .i64 2)], .agg [.lit (.int .i64 1), .lit (.int .i64 16), .lit (.int .i64 0), .lit (.int .i64 0), .lit (.int .i64 3), .lit (.int .i64 3), .lit (.int .i64 3)], .agg [.lit (.int .i64 20), .lit (.int .i64 20), .lit (.int .i64 0), .lit (.int .i64 2), .lit (.int .i64 2), .lit (.int .i64 2), .lit (.int .i64 1)]]

/-- 'girolaw46.FailCheck': WHATEVER THE INPUT: true; the input reads as it did. -/
def failCheckSpec : ChangeSpec := { name := "failCheck", fn := fun _ => fun
  | [d] => { results := [.lit (.bool true)], args := [d] }
  | _ => none }
def failCheckRow : OpenClaim := { program := "ytkmpmegiiaamdaadoor", sum := "da975ffb04b8b0e82180f3bc58f49db4e9f476d4a4d9f5d94f4a8da37ad79181", func := "giro/girolaw46.FailCheck", spec := "failCheck", unfollowed := true, recurses := true, named := ["giro/ident.shapes", "math/bits.divideError", "math/bits.overflowError"], apart := false, laid := [("giro/ident.shapes", laid_giro_ident_shapes)] }
def FailCheckSaid : Prop := failCheckRow.holds Tryd.pinned (OpenSpec.ofChange failCheckSpec)

/-- ITS FALSE NEIGHBOUR: 'it returns false'. Refute it at one input. -/
def failCheckWrong : ChangeSpec := { name := "failCheck", fn := fun _ => fun
  | [d] => { results := [.lit (.bool false)], args := [d] }
  | _ => none }
def FailCheckWrongFalsely : Prop := failCheckRow.holds Tryd.pinned (OpenSpec.ofChange failCheckWrong)

/-- 'girolaw46.FailPenalty': WHATEVER THE INPUT: true; the input reads as it did. -/
def failPenaltySpec : ChangeSpec := { name := "failPenalty", fn := fun _ => fun
  | [d1, d2] => { results := [.lit (.bool true)], args := [d1, d2] }
  | _ => none }
def failPenaltyRow : OpenClaim := { program := "ytkmpmegiiaamdaadoor", sum := "da975ffb04b8b0e82180f3bc58f49db4e9f476d4a4d9f5d94f4a8da37ad79181", func := "giro/girolaw46.FailPenalty", spec := "failPenalty", unfollowed := true, recurses := true, named := ["giro/ident.shapes", "math/bits.divideError", "math/bits.overflowError"], apart := false, laid := [("giro/ident.shapes", laid_giro_ident_shapes)] }
def FailPenaltySaid : Prop := failPenaltyRow.holds Tryd.pinned (OpenSpec.ofChange failPenaltySpec)

/-- ITS FALSE NEIGHBOUR: 'it returns false'. Refute it at one input. -/
def failPenaltyWrong : ChangeSpec := { name := "failPenalty", fn := fun _ => fun
  | [d1, d2] => { results := [.lit (.bool false)], args := [d1, d2] }
  | _ => none }
def FailPenaltyWrongFalsely : Prop := failPenaltyRow.holds Tryd.pinned (OpenSpec.ofChange failPenaltyWrong)

/-- 'girolaw46.FailMonotone': WHATEVER THE INPUT: true; the input reads as it did. -/
def failMonotoneSpec : ChangeSpec := { name := "failMonotone", fn := fun _ => fun
  | [d1, d2, d3] => { results := [.lit (.bool true)], args := [d1, d2, d3] }
  | _ => none }
def failMonotoneRow : OpenClaim := { program := "ytkmpmegiiaamdaadoor", sum := "da975ffb04b8b0e82180f3bc58f49db4e9f476d4a4d9f5d94f4a8da37ad79181", func := "giro/girolaw46.FailMonotone", spec := "failMonotone", unfollowed := true, recurses := true, named := ["giro/ident.shapes", "math/bits.divideError", "math/bits.overflowError"], apart := false, laid := [("giro/ident.shapes", laid_giro_ident_shapes)] }
def FailMonotoneSaid : Prop := failMonotoneRow.holds Tryd.pinned (OpenSpec.ofChange failMonotoneSpec)

/-- ITS FALSE NEIGHBOUR: 'it returns false'. Refute it at one input. -/
def failMonotoneWrong : ChangeSpec := { name := "failMonotone", fn := fun _ => fun
  | [d1, d2, d3] => { results := [.lit (.bool false)], args := [d1, d2, d3] }
  | _ => none }
def FailMonotoneWrongFalsely : Prop := failMonotoneRow.holds Tryd.pinned (OpenSpec.ofChange failMonotoneWrong)

/-- 'girolaw46.FailCompensation': WHATEVER THE INPUT: true; the input reads as it did. -/
def failCompensationSpec : ChangeSpec := { name := "failCompensation", fn := fun _ => fun
  | [d1, d2, d3] => { results := [.lit (.bool true)], args := [d1, d2, d3] }
  | _ => none }
def failCompensationRow : OpenClaim := { program := "ytkmpmegiiaamdaadoor", sum := "da975ffb04b8b0e82180f3bc58f49db4e9f476d4a4d9f5d94f4a8da37ad79181", func := "giro/girolaw46.FailCompensation", spec := "failCompensation", unfollowed := true, recurses := true, named := ["giro/ident.shapes", "math/bits.divideError", "math/bits.overflowError"], apart := false, laid := [("giro/ident.shapes", laid_giro_ident_shapes)] }
def FailCompensationSaid : Prop := failCompensationRow.holds Tryd.pinned (OpenSpec.ofChange failCompensationSpec)

/-- ITS FALSE NEIGHBOUR: 'it returns false'. Refute it at one input. -/
def failCompensationWrong : ChangeSpec := { name := "failCompensation", fn := fun _ => fun
  | [d1, d2, d3] => { results := [.lit (.bool false)], args := [d1, d2, d3] }
  | _ => none }
def FailCompensationWrongFalsely : Prop := failCompensationRow.holds Tryd.pinned (OpenSpec.ofChange failCompensationWrong)

/- THE SECOND FORM. 'bulk': how many values and letters a reading holds, each counted each time it is reached (what is shared counts as often as it is met; a slice's spare places count too). A statement '..UptoSaid' is the law's where the arguments, and the package variables that the reading takes, are together of bulk at most 1048576: NARROWER than '..Said'. Prove '..Said' where nothing that the law and all that it calls make is longer than what came in: it says more and counts as full. Else prove '..UptoSaid'. A law counts once. -/
mutual
def uptoBulk {H : Type} : DataW H → Nat
  | .lit (.string bytes) => bytes.length + 1
  | .lit _ => 1
  | .nil => 1
  | .ptr d => uptoBulk d + 1
  | .slice elems spare => uptoBulkAll elems + uptoBulkAll spare + 1
  | .agg parts => uptoBulkAll parts + 1
  | .iface _ d => uptoBulk d + 1
  | .map entries => uptoBulkEntries entries + 1
  | .held _ => 1
def uptoBulkAll {H : Type} : List (DataW H) → Nat
  | [] => 0
  | d :: r => uptoBulk d + uptoBulkAll r
def uptoBulkEntries {H : Type} : List (Lit × DataW H) → Nat
  | [] => 0
  | x :: r => uptoBulkEntry x + uptoBulkEntries r
def uptoBulkEntry {H : Type} : Lit × DataW H → Nat
  | (.string bytes, d) => bytes.length + uptoBulk d + 1
  | (_, d) => uptoBulk d + 1
 end
def uptoSmall : (H : Type) → List (DataW H) → Bool := fun _ ds => decide (uptoBulkAll ds ≤ 1048576)
def OpenSpec.upto (s : _root_.Go.ChangeSpec) : _root_.Go.OpenSpec := { _root_.Go.OpenSpec.ofChange s with cond := some uptoSmall }

/-- 'girolaw46.FailCheck', WHERE WHAT IT READS IS OF BULK AT MOST 1048576: true; the input reads as it did. -/
def failCheckUptoRow : OpenClaim := { program := "ytkmpmegiiaamdaadoor", sum := "da975ffb04b8b0e82180f3bc58f49db4e9f476d4a4d9f5d94f4a8da37ad79181", func := "giro/girolaw46.FailCheck", spec := "failCheck", unfollowed := true, recurses := true, named := ["giro/ident.shapes", "math/bits.divideError", "math/bits.overflowError"], apart := false, laid := [("giro/ident.shapes", laid_giro_ident_shapes)], narrowed := true }
def FailCheckUptoSaid : Prop := failCheckUptoRow.holds Tryd.pinned (OpenSpec.upto failCheckSpec)

/-- 'girolaw46.FailPenalty', WHERE WHAT IT READS IS OF BULK AT MOST 1048576: true; the input reads as it did. -/
def failPenaltyUptoRow : OpenClaim := { program := "ytkmpmegiiaamdaadoor", sum := "da975ffb04b8b0e82180f3bc58f49db4e9f476d4a4d9f5d94f4a8da37ad79181", func := "giro/girolaw46.FailPenalty", spec := "failPenalty", unfollowed := true, recurses := true, named := ["giro/ident.shapes", "math/bits.divideError", "math/bits.overflowError"], apart := false, laid := [("giro/ident.shapes", laid_giro_ident_shapes)], narrowed := true }
def FailPenaltyUptoSaid : Prop := failPenaltyUptoRow.holds Tryd.pinned (OpenSpec.upto failPenaltySpec)

/-- 'girolaw46.FailMonotone', WHERE WHAT IT READS IS OF BULK AT MOST 1048576: true; the input reads as it did. -/
def failMonotoneUptoRow : OpenClaim := { program := "ytkmpmegiiaamdaadoor", sum := "da975ffb04b8b0e82180f3bc58f49db4e9f476d4a4d9f5d94f4a8da37ad79181", func := "giro/girolaw46.FailMonotone", spec := "failMonotone", unfollowed := true, recurses := true, named := ["giro/ident.shapes", "math/bits.divideError", "math/bits.overflowError"], apart := false, laid := [("giro/ident.shapes", laid_giro_ident_shapes)], narrowed := true }
def FailMonotoneUptoSaid : Prop := failMonotoneUptoRow.holds Tryd.pinned (OpenSpec.upto failMonotoneSpec)

/-- 'girolaw46.FailCompensation', WHERE WHAT IT READS IS OF BULK AT MOST 1048576: true; the input reads as it did. -/
def failCompensationUptoRow : OpenClaim := { program := "ytkmpmegiiaamdaadoor", sum := "da975ffb04b8b0e82180f3bc58f49db4e9f476d4a4d9f5d94f4a8da37ad79181", func := "giro/girolaw46.FailCompensation", spec := "failCompensation", unfollowed := true, recurses := true, named := ["giro/ident.shapes", "math/bits.divideError", "math/bits.overflowError"], apart := false, laid := [("giro/ident.shapes", laid_giro_ident_shapes)], narrowed := true }
def FailCompensationUptoSaid : Prop := failCompensationUptoRow.holds Tryd.pinned (OpenSpec.upto failCompensationSpec)

end Rows
end Go.Proofs.YtkmpmegiiaamdaaDoor
