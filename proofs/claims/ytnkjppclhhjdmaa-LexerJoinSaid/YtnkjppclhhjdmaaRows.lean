/-
  No cell of these rows narrows 'for every input' (looked for: loops, veiled, ifaces, maps, wideKeys, modest, calm, conditions, laid).
  DERIVED. THE GIVEN ROWS OF THIS SEAT. 7 by the template 'for every input the law returns true; each argument reads behind the call as it read before'; 0 by the template 'total and deterministic' (their statements: YtnkjppclhhjdmaaTotals.lean).
  GIVEN WITH THE SEED: the statements are not yours to turn. If you find one false, say at which input.
  Laid BY PROGRAM, IN A SANDBOX (cutbox-rows.mjs): the forced cells as the released guide's own fill.sh prints them over the translation e3064cf9bfd147a7… (all of the seat's roots in one cut). By AI agents, Wed Nov 11 2026. No macro, syntax, notation, axiom, sorry.
-/
import Derived.Test.YtnkjppclhhjdmaaChecked
import GoSem.Claim
import GoSem.ClaimJoined
import GoSem.ClaimMapViews
import Derived.JoinedTies
import Derived.KernelRfl
namespace Go.Proofs.Ytnkjppclhhjdmaa
/- THE CELL 'sum', in the pinned program and in every row, IS THE sha256 OF THE DUMP (.gsa) THAT YtnkjppclhhjdmaaProg.lean LOADS. Nothing in Lean hashes anything: it is a label: what it is worth is what the hold of that sum in a sandbox is worth. -/
noncomputable def Try.pinned : Pinned := { name := "ytnkjppclhhjdmaa", sum := "e3064cf9bfd147a7bb58c0043be68bbb70408436510e0bdb06a3fb1f9ececea1", checked := Try.checked }
namespace Rows
def none {H : Type} : Left H := { results := [], args := [] }

/-- 'girolaw17.LexerClassify': WHATEVER THE INPUT: true; the input reads as it did. -/
def lexerClassifySpec : ChangeSpec := { name := "lexerClassify", fn := fun _ => fun
  | [d] => { results := [.lit (.bool true)], args := [d] }
  | _ => none }
def lexerClassifyRow : OpenClaim := { program := "ytnkjppclhhjdmaa", sum := "e3064cf9bfd147a7bb58c0043be68bbb70408436510e0bdb06a3fb1f9ececea1", func := "giro/girolaw17.LexerClassify", spec := "lexerClassify", inPlace := ["internal/bytealg.IndexByteString", "internal/bytealg.IndexString"], unfollowed := true, recurses := true, named := ["internal/bytealg.MaxLen"], apart := false }
def LexerClassifySaid : Prop := lexerClassifyRow.holds Try.pinned (OpenSpec.ofChange lexerClassifySpec)

/-- ITS FALSE NEIGHBOUR: 'it returns false'. Refute it at one input. -/
def lexerClassifyWrong : ChangeSpec := { name := "lexerClassify", fn := fun _ => fun
  | [d] => { results := [.lit (.bool false)], args := [d] }
  | _ => none }
def LexerClassifyWrongFalsely : Prop := lexerClassifyRow.holds Try.pinned (OpenSpec.ofChange lexerClassifyWrong)

/-- 'girolaw17.LexerTokenize': WHATEVER THE INPUT: true; the input reads as it did. -/
def lexerTokenizeSpec : ChangeSpec := { name := "lexerTokenize", fn := fun _ => fun
  | [d] => { results := [.lit (.bool true)], args := [d] }
  | _ => none }
def lexerTokenizeRow : OpenClaim := { program := "ytnkjppclhhjdmaa", sum := "e3064cf9bfd147a7bb58c0043be68bbb70408436510e0bdb06a3fb1f9ececea1", func := "giro/girolaw17.LexerTokenize", spec := "lexerTokenize", inPlace := ["internal/bytealg.IndexByteString", "internal/bytealg.IndexString"], unfollowed := true, recurses := true, named := ["internal/bytealg.MaxLen"], apart := false }
def LexerTokenizeSaid : Prop := lexerTokenizeRow.holds Try.pinned (OpenSpec.ofChange lexerTokenizeSpec)

/-- ITS FALSE NEIGHBOUR: 'it returns false'. Refute it at one input. -/
def lexerTokenizeWrong : ChangeSpec := { name := "lexerTokenize", fn := fun _ => fun
  | [d] => { results := [.lit (.bool false)], args := [d] }
  | _ => none }
def LexerTokenizeWrongFalsely : Prop := lexerTokenizeRow.holds Try.pinned (OpenSpec.ofChange lexerTokenizeWrong)

/-- 'girolaw17.LexerOffsets': WHATEVER THE INPUT: true; the input reads as it did. -/
def lexerOffsetsSpec : ChangeSpec := { name := "lexerOffsets", fn := fun _ => fun
  | [d] => { results := [.lit (.bool true)], args := [d] }
  | _ => none }
def lexerOffsetsRow : OpenClaim := { program := "ytnkjppclhhjdmaa", sum := "e3064cf9bfd147a7bb58c0043be68bbb70408436510e0bdb06a3fb1f9ececea1", func := "giro/girolaw17.LexerOffsets", spec := "lexerOffsets", inPlace := ["internal/bytealg.IndexByteString", "internal/bytealg.IndexString"], unfollowed := true, recurses := true, named := ["internal/bytealg.MaxLen"], apart := false }
def LexerOffsetsSaid : Prop := lexerOffsetsRow.holds Try.pinned (OpenSpec.ofChange lexerOffsetsSpec)

/-- ITS FALSE NEIGHBOUR: 'it returns false'. Refute it at one input. -/
def lexerOffsetsWrong : ChangeSpec := { name := "lexerOffsets", fn := fun _ => fun
  | [d] => { results := [.lit (.bool false)], args := [d] }
  | _ => none }
def LexerOffsetsWrongFalsely : Prop := lexerOffsetsRow.holds Try.pinned (OpenSpec.ofChange lexerOffsetsWrong)

/-- 'girolaw17.LexerErrorPrefix': WHATEVER THE INPUT: true; the input reads as it did. -/
def lexerErrorPrefixSpec : ChangeSpec := { name := "lexerErrorPrefix", fn := fun _ => fun
  | [d1, d2] => { results := [.lit (.bool true)], args := [d1, d2] }
  | _ => none }
def lexerErrorPrefixRow : OpenClaim := { program := "ytnkjppclhhjdmaa", sum := "e3064cf9bfd147a7bb58c0043be68bbb70408436510e0bdb06a3fb1f9ececea1", func := "giro/girolaw17.LexerErrorPrefix", spec := "lexerErrorPrefix", inPlace := ["internal/bytealg.IndexByteString", "internal/bytealg.IndexString"], unfollowed := true, recurses := true, named := ["internal/bytealg.MaxLen"], apart := false }
def LexerErrorPrefixSaid : Prop := lexerErrorPrefixRow.holds Try.pinned (OpenSpec.ofChange lexerErrorPrefixSpec)

/-- ITS FALSE NEIGHBOUR: 'it returns false'. Refute it at one input. -/
def lexerErrorPrefixWrong : ChangeSpec := { name := "lexerErrorPrefix", fn := fun _ => fun
  | [d1, d2] => { results := [.lit (.bool false)], args := [d1, d2] }
  | _ => none }
def LexerErrorPrefixWrongFalsely : Prop := lexerErrorPrefixRow.holds Try.pinned (OpenSpec.ofChange lexerErrorPrefixWrong)

/-- 'girolaw17.LexerBlanks': WHATEVER THE INPUT: true; the input reads as it did. -/
def lexerBlanksSpec : ChangeSpec := { name := "lexerBlanks", fn := fun _ => fun
  | [d1, d2, d3] => { results := [.lit (.bool true)], args := [d1, d2, d3] }
  | _ => none }
def lexerBlanksRow : OpenClaim := { program := "ytnkjppclhhjdmaa", sum := "e3064cf9bfd147a7bb58c0043be68bbb70408436510e0bdb06a3fb1f9ececea1", func := "giro/girolaw17.LexerBlanks", spec := "lexerBlanks", inPlace := ["internal/bytealg.IndexByteString", "internal/bytealg.IndexString"], unfollowed := true, recurses := true, named := ["internal/bytealg.MaxLen"], apart := false }
def LexerBlanksSaid : Prop := lexerBlanksRow.holds Try.pinned (OpenSpec.ofChange lexerBlanksSpec)

/-- ITS FALSE NEIGHBOUR: 'it returns false'. Refute it at one input. -/
def lexerBlanksWrong : ChangeSpec := { name := "lexerBlanks", fn := fun _ => fun
  | [d1, d2, d3] => { results := [.lit (.bool false)], args := [d1, d2, d3] }
  | _ => none }
def LexerBlanksWrongFalsely : Prop := lexerBlanksRow.holds Try.pinned (OpenSpec.ofChange lexerBlanksWrong)

/-- 'girolaw17.LexerJoin': WHATEVER THE INPUT: true; the input reads as it did. -/
def lexerJoinSpec : ChangeSpec := { name := "lexerJoin", fn := fun _ => fun
  | [d1, d2] => { results := [.lit (.bool true)], args := [d1, d2] }
  | _ => none }
def lexerJoinRow : OpenClaim := { program := "ytnkjppclhhjdmaa", sum := "e3064cf9bfd147a7bb58c0043be68bbb70408436510e0bdb06a3fb1f9ececea1", func := "giro/girolaw17.LexerJoin", spec := "lexerJoin", inPlace := ["internal/bytealg.IndexByteString", "internal/bytealg.IndexString", "internal/abi.NoEscape", "internal/bytealg.MakeNoZero"], unfollowed := true, recurses := true, named := ["internal/bytealg.MaxLen"], apart := false }
def LexerJoinSaid : Prop := lexerJoinRow.holds Try.pinned (OpenSpec.ofChange lexerJoinSpec)

/-- ITS FALSE NEIGHBOUR: 'it returns false'. Refute it at one input. -/
def lexerJoinWrong : ChangeSpec := { name := "lexerJoin", fn := fun _ => fun
  | [d1, d2] => { results := [.lit (.bool false)], args := [d1, d2] }
  | _ => none }
def LexerJoinWrongFalsely : Prop := lexerJoinRow.holds Try.pinned (OpenSpec.ofChange lexerJoinWrong)

/-- 'girolaw17.LexerRoundTrip': WHATEVER THE INPUT: true; the input reads as it did. -/
def lexerRoundTripSpec : ChangeSpec := { name := "lexerRoundTrip", fn := fun _ => fun
  | [d1, d2] => { results := [.lit (.bool true)], args := [d1, d2] }
  | _ => none }
def lexerRoundTripRow : OpenClaim := { program := "ytnkjppclhhjdmaa", sum := "e3064cf9bfd147a7bb58c0043be68bbb70408436510e0bdb06a3fb1f9ececea1", func := "giro/girolaw17.LexerRoundTrip", spec := "lexerRoundTrip", inPlace := ["internal/bytealg.IndexByteString", "internal/bytealg.IndexString", "internal/abi.NoEscape", "internal/bytealg.MakeNoZero"], unfollowed := true, recurses := true, named := ["internal/bytealg.MaxLen"], apart := false }
def LexerRoundTripSaid : Prop := lexerRoundTripRow.holds Try.pinned (OpenSpec.ofChange lexerRoundTripSpec)

/-- ITS FALSE NEIGHBOUR: 'it returns false'. Refute it at one input. -/
def lexerRoundTripWrong : ChangeSpec := { name := "lexerRoundTrip", fn := fun _ => fun
  | [d1, d2] => { results := [.lit (.bool false)], args := [d1, d2] }
  | _ => none }
def LexerRoundTripWrongFalsely : Prop := lexerRoundTripRow.holds Try.pinned (OpenSpec.ofChange lexerRoundTripWrong)

/- THE SECOND FORM. 'bulk': how many values and letters a reading holds, each counted each time it is reached (what is shared counts as often as it is met; a slice's spare places count too). A statement '..UptoSaid' is the law's where the arguments, and the package variables that the reading takes, are together of bulk at most 1048576: NARROWER than '..Said'. Prove '..Said' where nothing that the law and all that it calls make is longer than what came in: it says more and counts as full. Else prove '..UptoSaid'. A law counts once. -/
mutual
def uptoBulk {H : Type} : DataW H → Nat
  | .lit (.string bytes) => bytes.length + 1
  | .lit _ => 1
  | .nil => 1
  | .ptr d => uptoBulk d + 1
  | .slice elems spare => uptoBulkAll elems + uptoBulkAll spare + 1
  | .agg parts => uptoBulkAll parts + 1
  | .iface _ d => uptoBulk d + 1
  | .map entries => uptoBulkEntries entries + 1
  | .held _ => 1
def uptoBulkAll {H : Type} : List (DataW H) → Nat
  | [] => 0
  | d :: r => uptoBulk d + uptoBulkAll r
def uptoBulkEntries {H : Type} : List (Lit × DataW H) → Nat
  | [] => 0
  | x :: r => uptoBulkEntry x + uptoBulkEntries r
def uptoBulkEntry {H : Type} : Lit × DataW H → Nat
  | (.string bytes, d) => bytes.length + uptoBulk d + 1
  | (_, d) => uptoBulk d + 1
 end
def uptoSmall : (H : Type) → List (DataW H) → Bool := fun _ ds => decide (uptoBulkAll ds ≤ 1048576)
def OpenSpec.upto (s : _root_.Go.ChangeSpec) : _root_.Go.OpenSpec := { _root_.Go.OpenSpec.ofChange s with cond := some uptoSmall }

/-- 'girolaw17.LexerClassify', WHERE WHAT IT READS IS OF BULK AT MOST 1048576: true; the input reads as it did. -/
def lexerClassifyUptoRow : OpenClaim := { program := "ytnkjppclhhjdmaa", sum := "e3064cf9bfd147a7bb58c0043be68bbb70408436510e0bdb06a3fb1f9ececea1", func := "giro/girolaw17.LexerClassify", spec := "lexerClassify", inPlace := ["internal/bytealg.IndexByteString", "internal/bytealg.IndexString"], unfollowed := true, recurses := true, named := ["internal/bytealg.MaxLen"], apart := false, narrowed := true }
def LexerClassifyUptoSaid : Prop := lexerClassifyUptoRow.holds Try.pinned (OpenSpec.upto lexerClassifySpec)

/-- 'girolaw17.LexerTokenize', WHERE WHAT IT READS IS OF BULK AT MOST 1048576: true; the input reads as it did. -/
def lexerTokenizeUptoRow : OpenClaim := { program := "ytnkjppclhhjdmaa", sum := "e3064cf9bfd147a7bb58c0043be68bbb70408436510e0bdb06a3fb1f9ececea1", func := "giro/girolaw17.LexerTokenize", spec := "lexerTokenize", inPlace := ["internal/bytealg.IndexByteString", "internal/bytealg.IndexString"], unfollowed := true, recurses := true, named := ["internal/bytealg.MaxLen"], apart := false, narrowed := true }
def LexerTokenizeUptoSaid : Prop := lexerTokenizeUptoRow.holds Try.pinned (OpenSpec.upto lexerTokenizeSpec)

/-- 'girolaw17.LexerOffsets', WHERE WHAT IT READS IS OF BULK AT MOST 1048576: true; the input reads as it did. -/
def lexerOffsetsUptoRow : OpenClaim := { program := "ytnkjppclhhjdmaa", sum := "e3064cf9bfd147a7bb58c0043be68bbb70408436510e0bdb06a3fb1f9ececea1", func := "giro/girolaw17.LexerOffsets", spec := "lexerOffsets", inPlace := ["internal/bytealg.IndexByteString", "internal/bytealg.IndexString"], unfollowed := true, recurses := true, named := ["internal/bytealg.MaxLen"], apart := false, narrowed := true }
def LexerOffsetsUptoSaid : Prop := lexerOffsetsUptoRow.holds Try.pinned (OpenSpec.upto lexerOffsetsSpec)

/-- 'girolaw17.LexerErrorPrefix', WHERE WHAT IT READS IS OF BULK AT MOST 1048576: true; the input reads as it did. -/
def lexerErrorPrefixUptoRow : OpenClaim := { program := "ytnkjppclhhjdmaa", sum := "e3064cf9bfd147a7bb58c0043be68bbb70408436510e0bdb06a3fb1f9ececea1", func := "giro/girolaw17.LexerErrorPrefix", spec := "lexerErrorPrefix", inPlace := ["internal/bytealg.IndexByteString", "internal/bytealg.IndexString"], unfollowed := true, recurses := true, named := ["internal/bytealg.MaxLen"], apart := false, narrowed := true }
def LexerErrorPrefixUptoSaid : Prop := lexerErrorPrefixUptoRow.holds Try.pinned (OpenSpec.upto lexerErrorPrefixSpec)

/-- 'girolaw17.LexerBlanks', WHERE WHAT IT READS IS OF BULK AT MOST 1048576: true; the input reads as it did. -/
def lexerBlanksUptoRow : OpenClaim := { program := "ytnkjppclhhjdmaa", sum := "e3064cf9bfd147a7bb58c0043be68bbb70408436510e0bdb06a3fb1f9ececea1", func := "giro/girolaw17.LexerBlanks", spec := "lexerBlanks", inPlace := ["internal/bytealg.IndexByteString", "internal/bytealg.IndexString"], unfollowed := true, recurses := true, named := ["internal/bytealg.MaxLen"], apart := false, narrowed := true }
def LexerBlanksUptoSaid : Prop := lexerBlanksUptoRow.holds Try.pinned (OpenSpec.upto lexerBlanksSpec)

/-- 'girolaw17.LexerJoin', WHERE WHAT IT READS IS OF BULK AT MOST 1048576: true; the input reads as it did. -/
def lexerJoinUptoRow : OpenClaim := { program := "ytnkjppclhhjdmaa", sum := "e3064cf9bfd147a7bb58c0043be68bbb70408436510e0bdb06a3fb1f9ececea1", func := "giro/girolaw17.LexerJoin", spec := "lexerJoin", inPlace := ["internal/bytealg.IndexByteString", "internal/bytealg.IndexString", "internal/abi.NoEscape", "internal/bytealg.MakeNoZero"], unfollowed := true, recurses := true, named := ["internal/bytealg.MaxLen"], apart := false, narrowed := true }
def LexerJoinUptoSaid : Prop := lexerJoinUptoRow.holds Try.pinned (OpenSpec.upto lexerJoinSpec)

/-- 'girolaw17.LexerRoundTrip', WHERE WHAT IT READS IS OF BULK AT MOST 1048576: true; the input reads as it did. -/
def lexerRoundTripUptoRow : OpenClaim := { program := "ytnkjppclhhjdmaa", sum := "e3064cf9bfd147a7bb58c0043be68bbb70408436510e0bdb06a3fb1f9ececea1", func := "giro/girolaw17.LexerRoundTrip", spec := "lexerRoundTrip", inPlace := ["internal/bytealg.IndexByteString", "internal/bytealg.IndexString", "internal/abi.NoEscape", "internal/bytealg.MakeNoZero"], unfollowed := true, recurses := true, named := ["internal/bytealg.MaxLen"], apart := false, narrowed := true }
def LexerRoundTripUptoSaid : Prop := lexerRoundTripUptoRow.holds Try.pinned (OpenSpec.upto lexerRoundTripSpec)

end Rows
end Go.Proofs.Ytnkjppclhhjdmaa
