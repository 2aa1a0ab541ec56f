/-
  No cell of these rows narrows 'for every input' (looked for: loops, veiled, ifaces, maps, wideKeys, modest, calm, conditions, laid).
  DERIVED. THE GIVEN ROWS OF THIS SEAT. 3 by the template 'for every input the law returns true; each argument reads behind the call as it read before'; 0 by the template 'total and deterministic' (their statements: YthgeeobbenjioabTotals.lean).
  GIVEN WITH THE SEED: the statements are not yours to turn. If you find one false, say at which input.
  Laid BY PROGRAM, IN A SANDBOX (cutbox-rows.mjs): the forced cells as the released guide's own fill.sh prints them over the translation 4d54b74090cd530c… (all of the seat's roots in one cut). By AI agents, Wed Nov 11 2026. No macro, syntax, notation, axiom, sorry.
-/
import Derived.Test.YthgeeobbenjioabChecked
import GoSem.Claim
import GoSem.ClaimJoined
import GoSem.ClaimMapViews
import Derived.JoinedTies
import Derived.KernelRfl
namespace Go.Proofs.Ythgeeobbenjioab
/- THE CELL 'sum', in the pinned program and in every row, IS THE sha256 OF THE DUMP (.gsa) THAT YthgeeobbenjioabProg.lean LOADS. Nothing in Lean hashes anything: it is a label: what it is worth is what the hold of that sum in a sandbox is worth. -/
noncomputable def Try.pinned : Pinned := { name := "ythgeeobbenjioab", sum := "4d54b74090cd530ce1f56f7baa7cbc068a6e78862472dd466493c3908ef96ea6", checked := Try.checked }
namespace Rows
def none {H : Type} : Left H := { results := [], args := [] }

/-- 'girolaw33.ValuationNeeded': WHATEVER THE INPUT: true; the input reads as it did. -/
def valuationNeededSpec : ChangeSpec := { name := "valuationNeeded", fn := fun _ => fun
  | [d1, d2, d3, d4] => { results := [.lit (.bool true)], args := [d1, d2, d3, d4] }
  | _ => none }
def valuationNeededRow : OpenClaim := { program := "ythgeeobbenjioab", sum := "4d54b74090cd530ce1f56f7baa7cbc068a6e78862472dd466493c3908ef96ea6", func := "giro/girolaw33.ValuationNeeded", spec := "valuationNeeded", inPlace := ["math/bits.Add64"], named := ["math/bits.divideError", "math/bits.overflowError"], apart := false }
def ValuationNeededSaid : Prop := valuationNeededRow.holds Try.pinned (OpenSpec.ofChange valuationNeededSpec)

/-- ITS FALSE NEIGHBOUR: 'it returns false'. Refute it at one input. -/
def valuationNeededWrong : ChangeSpec := { name := "valuationNeeded", fn := fun _ => fun
  | [d1, d2, d3, d4] => { results := [.lit (.bool false)], args := [d1, d2, d3, d4] }
  | _ => none }
def ValuationNeededWrongFalsely : Prop := valuationNeededRow.holds Try.pinned (OpenSpec.ofChange valuationNeededWrong)

/-- 'girolaw33.ValuationNeededLeast': WHATEVER THE INPUT: true; the input reads as it did. -/
def valuationNeededLeastSpec : ChangeSpec := { name := "valuationNeededLeast", fn := fun _ => fun
  | [d1, d2, d3, d4] => { results := [.lit (.bool true)], args := [d1, d2, d3, d4] }
  | _ => none }
def valuationNeededLeastRow : OpenClaim := { program := "ythgeeobbenjioab", sum := "4d54b74090cd530ce1f56f7baa7cbc068a6e78862472dd466493c3908ef96ea6", func := "giro/girolaw33.ValuationNeededLeast", spec := "valuationNeededLeast", inPlace := ["math/bits.Add64"], named := ["math/bits.divideError", "math/bits.overflowError"], apart := false }
def ValuationNeededLeastSaid : Prop := valuationNeededLeastRow.holds Try.pinned (OpenSpec.ofChange valuationNeededLeastSpec)

/-- ITS FALSE NEIGHBOUR: 'it returns false'. Refute it at one input. -/
def valuationNeededLeastWrong : ChangeSpec := { name := "valuationNeededLeast", fn := fun _ => fun
  | [d1, d2, d3, d4] => { results := [.lit (.bool false)], args := [d1, d2, d3, d4] }
  | _ => none }
def ValuationNeededLeastWrongFalsely : Prop := valuationNeededLeastRow.holds Try.pinned (OpenSpec.ofChange valuationNeededLeastWrong)

/-- 'girolaw33.ValuationMonotone': WHATEVER THE INPUT: true; the input reads as it did. -/
def valuationMonotoneSpec : ChangeSpec := { name := "valuationMonotone", fn := fun _ => fun
  | [d1, d2, d3, d4, d5, d6] => { results := [.lit (.bool true)], args := [d1, d2, d3, d4, d5, d6] }
  | _ => none }
def valuationMonotoneRow : OpenClaim := { program := "ythgeeobbenjioab", sum := "4d54b74090cd530ce1f56f7baa7cbc068a6e78862472dd466493c3908ef96ea6", func := "giro/girolaw33.ValuationMonotone", spec := "valuationMonotone", inPlace := ["math/bits.Add64"], named := ["math/bits.divideError", "math/bits.overflowError"], apart := false }
def ValuationMonotoneSaid : Prop := valuationMonotoneRow.holds Try.pinned (OpenSpec.ofChange valuationMonotoneSpec)

/-- ITS FALSE NEIGHBOUR: 'it returns false'. Refute it at one input. -/
def valuationMonotoneWrong : ChangeSpec := { name := "valuationMonotone", fn := fun _ => fun
  | [d1, d2, d3, d4, d5, d6] => { results := [.lit (.bool false)], args := [d1, d2, d3, d4, d5, d6] }
  | _ => none }
def ValuationMonotoneWrongFalsely : Prop := valuationMonotoneRow.holds Try.pinned (OpenSpec.ofChange valuationMonotoneWrong)

/- THE SECOND FORM. 'bulk': how many values and letters a reading holds, each counted each time it is reached (what is shared counts as often as it is met; a slice's spare places count too). A statement '..UptoSaid' is the law's where the arguments, and the package variables that the reading takes, are together of bulk at most 1048576: NARROWER than '..Said'. Prove '..Said' where nothing that the law and all that it calls make is longer than what came in: it says more and counts as full. Else prove '..UptoSaid'. A law counts once. -/
mutual
def uptoBulk {H : Type} : DataW H → Nat
  | .lit (.string bytes) => bytes.length + 1
  | .lit _ => 1
  | .nil => 1
  | .ptr d => uptoBulk d + 1
  | .slice elems spare => uptoBulkAll elems + uptoBulkAll spare + 1
  | .agg parts => uptoBulkAll parts + 1
  | .iface _ d => uptoBulk d + 1
  | .map entries => uptoBulkEntries entries + 1
  | .held _ => 1
def uptoBulkAll {H : Type} : List (DataW H) → Nat
  | [] => 0
  | d :: r => uptoBulk d + uptoBulkAll r
def uptoBulkEntries {H : Type} : List (Lit × DataW H) → Nat
  | [] => 0
  | x :: r => uptoBulkEntry x + uptoBulkEntries r
def uptoBulkEntry {H : Type} : Lit × DataW H → Nat
  | (.string bytes, d) => bytes.length + uptoBulk d + 1
  | (_, d) => uptoBulk d + 1
 end
def uptoSmall : (H : Type) → List (DataW H) → Bool := fun _ ds => decide (uptoBulkAll ds ≤ 1048576)
def OpenSpec.upto (s : _root_.Go.ChangeSpec) : _root_.Go.OpenSpec := { _root_.Go.OpenSpec.ofChange s with cond := some uptoSmall }

/-- 'girolaw33.ValuationNeeded', WHERE WHAT IT READS IS OF BULK AT MOST 1048576: true; the input reads as it did. -/
def valuationNeededUptoRow : OpenClaim := { program := "ythgeeobbenjioab", sum := "4d54b74090cd530ce1f56f7baa7cbc068a6e78862472dd466493c3908ef96ea6", func := "giro/girolaw33.ValuationNeeded", spec := "valuationNeeded", inPlace := ["math/bits.Add64"], named := ["math/bits.divideError", "math/bits.overflowError"], apart := false, narrowed := true }
def ValuationNeededUptoSaid : Prop := valuationNeededUptoRow.holds Try.pinned (OpenSpec.upto valuationNeededSpec)

/-- 'girolaw33.ValuationNeededLeast', WHERE WHAT IT READS IS OF BULK AT MOST 1048576: true; the input reads as it did. -/
def valuationNeededLeastUptoRow : OpenClaim := { program := "ythgeeobbenjioab", sum := "4d54b74090cd530ce1f56f7baa7cbc068a6e78862472dd466493c3908ef96ea6", func := "giro/girolaw33.ValuationNeededLeast", spec := "valuationNeededLeast", inPlace := ["math/bits.Add64"], named := ["math/bits.divideError", "math/bits.overflowError"], apart := false, narrowed := true }
def ValuationNeededLeastUptoSaid : Prop := valuationNeededLeastUptoRow.holds Try.pinned (OpenSpec.upto valuationNeededLeastSpec)

/-- 'girolaw33.ValuationMonotone', WHERE WHAT IT READS IS OF BULK AT MOST 1048576: true; the input reads as it did. -/
def valuationMonotoneUptoRow : OpenClaim := { program := "ythgeeobbenjioab", sum := "4d54b74090cd530ce1f56f7baa7cbc068a6e78862472dd466493c3908ef96ea6", func := "giro/girolaw33.ValuationMonotone", spec := "valuationMonotone", inPlace := ["math/bits.Add64"], named := ["math/bits.divideError", "math/bits.overflowError"], apart := false, narrowed := true }
def ValuationMonotoneUptoSaid : Prop := valuationMonotoneUptoRow.holds Try.pinned (OpenSpec.upto valuationMonotoneSpec)

end Rows
end Go.Proofs.Ythgeeobbenjioab
