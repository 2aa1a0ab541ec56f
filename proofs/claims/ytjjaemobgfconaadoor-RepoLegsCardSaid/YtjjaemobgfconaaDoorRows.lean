/-
  NARROWER THAN 'FOR EVERY INPUT', by the rows' own cells (each row's printed sentence says how): RepoCheck: laid · RepoInterest: laid · RepoRoll: laid · RepoExposure: laid · RepoLegs: laid.
  DERIVED. THE GIVEN ROWS OF THIS SEAT. 5 by the template 'for every input the law returns true; each argument reads behind the call as it read before'; 0 by the template 'total and deterministic' (their statements: YtjjaemobgfconaaDoorTotals.lean).
  GIVEN WITH THE SEED: the statements are not yours to turn. If you find one false, say at which input.
  Laid BY PROGRAM, IN A SANDBOX (cutbox-rows.mjs): the forced cells as the released guide's own fill.sh prints them over the translation 0e1127fe2c065eaa… (all of the seat's roots in one cut). By AI agents, Wed Nov 11 2026. No macro, syntax, notation, axiom, sorry.
-/
import Derived.Test.YtjjaemobgfconaaDoorChecked
import GoSem.Claim
import GoSem.ClaimJoined
import GoSem.ClaimMapViews
import Derived.JoinedTies
import Derived.KernelRfl
namespace Go.Proofs.YtjjaemobgfconaaDoor
/- THE CELL 'sum', in the pinned program and in every row, IS THE sha256 OF THE DUMP (.gsa) THAT YtjjaemobgfconaaDoorProg.lean LOADS. Nothing in Lean hashes anything: it is a label: what it is worth is what the hold of that sum in a sandbox is worth. -/
noncomputable def Tryd.pinned : Pinned := { name := "ytjjaemobgfconaadoor", sum := "0e1127fe2c065eaac473508089eb9760c5a7344f9eac92e02fddd65895fde321", checked := Tryd.checked }
namespace Rows
def none {H : Type} : Left H := { results := [], args := [] }

/- WHAT THE LISTED PACKAGE-LEVEL VARIABLES READ AS WHEN THE CALL BEGINS. Each datum BY PROGRAM (the guide's laid-datum.mjs) off the statement by which the dump's own 'gosem.cut.vars' lays the variable. In a bare row this is a premise. The card (YtjjaemobgfconaaDoorCards.lean) ties it to the program's text. -/
def laid_giro_ident_shapes {H : Type} : DataW H := .agg [.agg [.lit (.int .i64 12), .lit (.int .i64 12), .lit (.int .i64 2), .lit (.int .i64 1), .lit (.int .i64 0), .lit (.int .i64 2), .lit (.int .i64 1)], .agg [.lit (.int .i64 4), .lit (.int .i64 8), .lit (.int .i64 1), .lit (.int .i64 0), .lit (.int .i64 0), .lit (.int .i64 2), .lit (.int .i64 2)], .agg [.lit (.int .i64 1), .lit (.int .i64 16), .lit (.int .i64 0), .lit (.int .i64 0), .lit (.int .i64 3), .lit (.int .i64 3), .lit (.int .i64 3)], .agg [.lit (.int .i64 20), .lit (.int .i64 20), .lit (.int .i64 0), .lit (.int .i64 2), .lit (.int .i64 2), .lit (.int .i64 2), .lit (.int .i64 1)]]

/-- 'girolaw41.RepoCheck': WHATEVER THE INPUT: true; the input reads as it did. -/
def repoCheckSpec : ChangeSpec := { name := "repoCheck", fn := fun _ => fun
  | [d1, d2] => { results := [.lit (.bool true)], args := [d1, d2] }
  | _ => none }
def repoCheckRow : OpenClaim := { program := "ytjjaemobgfconaadoor", sum := "0e1127fe2c065eaac473508089eb9760c5a7344f9eac92e02fddd65895fde321", func := "giro/girolaw41.RepoCheck", spec := "repoCheck", unfollowed := true, recurses := true, named := ["giro/ident.shapes", "math/bits.divideError", "math/bits.overflowError"], apart := false, laid := [("giro/ident.shapes", laid_giro_ident_shapes)] }
def RepoCheckSaid : Prop := repoCheckRow.holds Tryd.pinned (OpenSpec.ofChange repoCheckSpec)

/-- ITS FALSE NEIGHBOUR: 'it returns false'. Refute it at one input. -/
def repoCheckWrong : ChangeSpec := { name := "repoCheck", fn := fun _ => fun
  | [d1, d2] => { results := [.lit (.bool false)], args := [d1, d2] }
  | _ => none }
def RepoCheckWrongFalsely : Prop := repoCheckRow.holds Tryd.pinned (OpenSpec.ofChange repoCheckWrong)

/-- 'girolaw41.RepoInterest': WHATEVER THE INPUT: true; the input reads as it did. -/
def repoInterestSpec : ChangeSpec := { name := "repoInterest", fn := fun _ => fun
  | [d] => { results := [.lit (.bool true)], args := [d] }
  | _ => none }
def repoInterestRow : OpenClaim := { program := "ytjjaemobgfconaadoor", sum := "0e1127fe2c065eaac473508089eb9760c5a7344f9eac92e02fddd65895fde321", func := "giro/girolaw41.RepoInterest", spec := "repoInterest", unfollowed := true, recurses := true, named := ["giro/ident.shapes", "math/bits.divideError", "math/bits.overflowError"], apart := false, laid := [("giro/ident.shapes", laid_giro_ident_shapes)] }
def RepoInterestSaid : Prop := repoInterestRow.holds Tryd.pinned (OpenSpec.ofChange repoInterestSpec)

/-- ITS FALSE NEIGHBOUR: 'it returns false'. Refute it at one input. -/
def repoInterestWrong : ChangeSpec := { name := "repoInterest", fn := fun _ => fun
  | [d] => { results := [.lit (.bool false)], args := [d] }
  | _ => none }
def RepoInterestWrongFalsely : Prop := repoInterestRow.holds Tryd.pinned (OpenSpec.ofChange repoInterestWrong)

/-- 'girolaw41.RepoRoll': WHATEVER THE INPUT: true; the input reads as it did. -/
def repoRollSpec : ChangeSpec := { name := "repoRoll", fn := fun _ => fun
  | [d1, d2, d3, d4, d5] => { results := [.lit (.bool true)], args := [d1, d2, d3, d4, d5] }
  | _ => none }
def repoRollRow : OpenClaim := { program := "ytjjaemobgfconaadoor", sum := "0e1127fe2c065eaac473508089eb9760c5a7344f9eac92e02fddd65895fde321", func := "giro/girolaw41.RepoRoll", spec := "repoRoll", unfollowed := true, recurses := true, named := ["giro/ident.shapes", "math/bits.divideError", "math/bits.overflowError"], apart := false, laid := [("giro/ident.shapes", laid_giro_ident_shapes)] }
def RepoRollSaid : Prop := repoRollRow.holds Tryd.pinned (OpenSpec.ofChange repoRollSpec)

/-- ITS FALSE NEIGHBOUR: 'it returns false'. Refute it at one input. -/
def repoRollWrong : ChangeSpec := { name := "repoRoll", fn := fun _ => fun
  | [d1, d2, d3, d4, d5] => { results := [.lit (.bool false)], args := [d1, d2, d3, d4, d5] }
  | _ => none }
def RepoRollWrongFalsely : Prop := repoRollRow.holds Tryd.pinned (OpenSpec.ofChange repoRollWrong)

/-- 'girolaw41.RepoExposure': WHATEVER THE INPUT: true; the input reads as it did. -/
def repoExposureSpec : ChangeSpec := { name := "repoExposure", fn := fun _ => fun
  | [d1, d2, d3, d4] => { results := [.lit (.bool true)], args := [d1, d2, d3, d4] }
  | _ => none }
def repoExposureRow : OpenClaim := { program := "ytjjaemobgfconaadoor", sum := "0e1127fe2c065eaac473508089eb9760c5a7344f9eac92e02fddd65895fde321", func := "giro/girolaw41.RepoExposure", spec := "repoExposure", unfollowed := true, recurses := true, named := ["giro/ident.shapes", "math/bits.divideError", "math/bits.overflowError"], apart := false, laid := [("giro/ident.shapes", laid_giro_ident_shapes)] }
def RepoExposureSaid : Prop := repoExposureRow.holds Tryd.pinned (OpenSpec.ofChange repoExposureSpec)

/-- ITS FALSE NEIGHBOUR: 'it returns false'. Refute it at one input. -/
def repoExposureWrong : ChangeSpec := { name := "repoExposure", fn := fun _ => fun
  | [d1, d2, d3, d4] => { results := [.lit (.bool false)], args := [d1, d2, d3, d4] }
  | _ => none }
def RepoExposureWrongFalsely : Prop := repoExposureRow.holds Tryd.pinned (OpenSpec.ofChange repoExposureWrong)

/-- 'girolaw41.RepoLegs': WHATEVER THE INPUT: true; the input reads as it did. -/
def repoLegsSpec : ChangeSpec := { name := "repoLegs", fn := fun _ => fun
  | [d] => { results := [.lit (.bool true)], args := [d] }
  | _ => none }
def repoLegsRow : OpenClaim := { program := "ytjjaemobgfconaadoor", sum := "0e1127fe2c065eaac473508089eb9760c5a7344f9eac92e02fddd65895fde321", func := "giro/girolaw41.RepoLegs", spec := "repoLegs", unfollowed := true, recurses := true, named := ["giro/ident.shapes", "math/bits.divideError", "math/bits.overflowError"], apart := false, laid := [("giro/ident.shapes", laid_giro_ident_shapes)] }
def RepoLegsSaid : Prop := repoLegsRow.holds Tryd.pinned (OpenSpec.ofChange repoLegsSpec)

/-- ITS FALSE NEIGHBOUR: 'it returns false'. Refute it at one input. -/
def repoLegsWrong : ChangeSpec := { name := "repoLegs", fn := fun _ => fun
  | [d] => { results := [.lit (.bool false)], args := [d] }
  | _ => none }
def RepoLegsWrongFalsely : Prop := repoLegsRow.holds Tryd.pinned (OpenSpec.ofChange repoLegsWrong)

/- THE SECOND FORM. 'bulk': how many values and letters a reading holds, each counted each time it is reached (what is shared counts as often as it is met; a slice's spare places count too). A statement '..UptoSaid' is the law's where the arguments, and the package variables that the reading takes, are together of bulk at most 1048576: NARROWER than '..Said'. Prove '..Said' where nothing that the law and all that it calls make is longer than what came in: it says more and counts as full. Else prove '..UptoSaid'. A law counts once. -/
mutual
def uptoBulk {H : Type} : DataW H → Nat
  | .lit (.string bytes) => bytes.length + 1
  | .lit _ => 1
  | .nil => 1
  | .ptr d => uptoBulk d + 1
  | .slice elems spare => uptoBulkAll elems + uptoBulkAll spare + 1
  | .agg parts => uptoBulkAll parts + 1
  | .iface _ d => uptoBulk d + 1
  | .map entries => uptoBulkEntries entries + 1
  | .held _ => 1
def uptoBulkAll {H : Type} : List (DataW H) → Nat
  | [] => 0
  | d :: r => uptoBulk d + uptoBulkAll r
def uptoBulkEntries {H : Type} : List (Lit × DataW H) → Nat
  | [] => 0
  | x :: r => uptoBulkEntry x + uptoBulkEntries r
def uptoBulkEntry {H : Type} : Lit × DataW H → Nat
  | (.string bytes, d) => bytes.length + uptoBulk d + 1
  | (_, d) => uptoBulk d + 1
 end
def uptoSmall : (H : Type) → List (DataW H) → Bool := fun _ ds => decide (uptoBulkAll ds ≤ 1048576)
def OpenSpec.upto (s : _root_.Go.ChangeSpec) : _root_.Go.OpenSpec := { _root_.Go.OpenSpec.ofChange s with cond := some uptoSmall }

/-- 'girolaw41.RepoCheck', WHERE WHAT IT READS IS OF BULK AT MOST 1048576: true; the input reads as it did. -/
def repoCheckUptoRow : OpenClaim := { program := "ytjjaemobgfconaadoor", sum := "0e1127fe2c065eaac473508089eb9760c5a7344f9eac92e02fddd65895fde321", func := "giro/girolaw41.RepoCheck", spec := "repoCheck", unfollowed := true, recurses := true, named := ["giro/ident.shapes", "math/bits.divideError", "math/bits.overflowError"], apart := false, laid := [("giro/ident.shapes", laid_giro_ident_shapes)], narrowed := true }
def RepoCheckUptoSaid : Prop := repoCheckUptoRow.holds Tryd.pinned (OpenSpec.upto repoCheckSpec)

/-- 'girolaw41.RepoInterest', WHERE WHAT IT READS IS OF BULK AT MOST 1048576: true; the input reads as it did. -/
def repoInterestUptoRow : OpenClaim := { program := "ytjjaemobgfconaadoor", sum := "0e1127fe2c065eaac473508089eb9760c5a7344f9eac92e02fddd65895fde321", func := "giro/girolaw41.RepoInterest", spec := "repoInterest", unfollowed := true, recurses := true, named := ["giro/ident.shapes", "math/bits.divideError", "math/bits.overflowError"], apart := false, laid := [("giro/ident.shapes", laid_giro_ident_shapes)], narrowed := true }
def RepoInterestUptoSaid : Prop := repoInterestUptoRow.holds Tryd.pinned (OpenSpec.upto repoInterestSpec)

/-- 'girolaw41.RepoRoll', WHERE WHAT IT READS IS OF BULK AT MOST 1048576: true; the input reads as it did. -/
def repoRollUptoRow : OpenClaim := { program := "ytjjaemobgfconaadoor", sum := "0e1127fe2c065eaac473508089eb9760c5a7344f9eac92e02fddd65895fde321", func := "giro/girolaw41.RepoRoll", spec := "repoRoll", unfollowed := true, recurses := true, named := ["giro/ident.shapes", "math/bits.divideError", "math/bits.overflowError"], apart := false, laid := [("giro/ident.shapes", laid_giro_ident_shapes)], narrowed := true }
def RepoRollUptoSaid : Prop := repoRollUptoRow.holds Tryd.pinned (OpenSpec.upto repoRollSpec)

/-- 'girolaw41.RepoExposure', WHERE WHAT IT READS IS OF BULK AT MOST 1048576: true; the input reads as it did. -/
def repoExposureUptoRow : OpenClaim := { program := "ytjjaemobgfconaadoor", sum := "0e1127fe2c065eaac473508089eb9760c5a7344f9eac92e02fddd65895fde321", func := "giro/girolaw41.RepoExposure", spec := "repoExposure", unfollowed := true, recurses := true, named := ["giro/ident.shapes", "math/bits.divideError", "math/bits.overflowError"], apart := false, laid := [("giro/ident.shapes", laid_giro_ident_shapes)], narrowed := true }
def RepoExposureUptoSaid : Prop := repoExposureUptoRow.holds Tryd.pinned (OpenSpec.upto repoExposureSpec)

/-- 'girolaw41.RepoLegs', WHERE WHAT IT READS IS OF BULK AT MOST 1048576: true; the input reads as it did. -/
def repoLegsUptoRow : OpenClaim := { program := "ytjjaemobgfconaadoor", sum := "0e1127fe2c065eaac473508089eb9760c5a7344f9eac92e02fddd65895fde321", func := "giro/girolaw41.RepoLegs", spec := "repoLegs", unfollowed := true, recurses := true, named := ["giro/ident.shapes", "math/bits.divideError", "math/bits.overflowError"], apart := false, laid := [("giro/ident.shapes", laid_giro_ident_shapes)], narrowed := true }
def RepoLegsUptoSaid : Prop := repoLegsUptoRow.holds Tryd.pinned (OpenSpec.upto repoLegsSpec)

end Rows
end Go.Proofs.YtjjaemobgfconaaDoor
