/-
  NARROWER THAN 'FOR EVERY INPUT', by the rows' own cells (each row's printed sentence says how): DateCivil: laid · DateFromCivil: laid · DateMonthLengths: laid · DateAddMonths: laid · DateMonthsBetween: laid · DateWeeks: laid · DateTexts: laid · DateParse: laid · DateClocks: laid · DateWeekdays: laid.
  DERIVED. THE GIVEN ROWS OF THIS SEAT. 10 by the template 'for every input the law returns true; each argument reads behind the call as it read before'; 0 by the template 'total and deterministic' (their statements: YtahfjhmgmpbmkacDoorTotals.lean).
  GIVEN WITH THE SEED: the statements are not yours to turn. If you find one false, say at which input.
  Laid BY PROGRAM, IN A SANDBOX (cutbox-rows.mjs): the forced cells as the released guide's own fill.sh prints them over the translation b28d7721568165d5… (all of the seat's roots in one cut). By AI agents, Wed Nov 11 2026. No macro, syntax, notation, axiom, sorry.
-/
import Derived.Test.YtahfjhmgmpbmkacDoorChecked
import GoSem.Claim
import GoSem.ClaimJoined
import GoSem.ClaimMapViews
import Derived.JoinedTies
import Derived.KernelRfl
namespace Go.Proofs.YtahfjhmgmpbmkacDoor
/- THE CELL 'sum', in the pinned program and in every row, IS THE sha256 OF THE DUMP (.gsa) THAT YtahfjhmgmpbmkacDoorProg.lean LOADS. Nothing in Lean hashes anything: it is a label: what it is worth is what the hold of that sum in a sandbox is worth. -/
noncomputable def Tryd.pinned : Pinned := { name := "ytahfjhmgmpbmkacdoor", sum := "b28d7721568165d5b0670edb70c4a408449047a0d9b977756611b9cef76f2cfa", checked := Tryd.checked }
namespace Rows
def none {H : Type} : Left H := { results := [], args := [] }

/- WHAT THE LISTED PACKAGE-LEVEL VARIABLES READ AS WHEN THE CALL BEGINS. Each datum BY PROGRAM (the guide's laid-datum.mjs) off the statement by which the dump's own 'gosem.cut.vars' lays the variable. In a bare row this is a premise. The card (YtahfjhmgmpbmkacDoorCards.lean) ties it to the program's text. -/
def laid_math_bits_deBruijn32tab {H : Type} : DataW H := .agg [.lit (.int .u8 0), .lit (.int .u8 1), .lit (.int .u8 28), .lit (.int .u8 2), .lit (.int .u8 29), .lit (.int .u8 14), .lit (.int .u8 24), .lit (.int .u8 3), .lit (.int .u8 30), .lit (.int .u8 22), .lit (.int .u8 20), .lit (.int .u8 15), .lit (.int .u8 25), .lit (.int .u8 17), .lit (.int .u8 4), .lit (.int .u8 8), .lit (.int .u8 31), .lit (.int .u8 27), .lit (.int .u8 13), .lit (.int .u8 23), .lit (.int .u8 21), .lit (.int .u8 19), .lit (.int .u8 16), .lit (.int .u8 7), .lit (.int .u8 26), .lit (.int .u8 12), .lit (.int .u8 18), .lit (.int .u8 6), .lit (.int .u8 11), .lit (.int .u8 5), .lit (.int .u8 10), .lit (.int .u8 9)]
def laid_math_bits_deBruijn64tab {H : Type} : DataW H := .agg [.lit (.int .u8 0), .lit (.int .u8 1), .lit (.int .u8 56), .lit (.int .u8 2), .lit (.int .u8 57), .lit (.int .u8 49), .lit (.int .u8 28), .lit (.int .u8 3), .lit (.int .u8 61), .lit (.int .u8 58), .lit (.int .u8 42), .lit (.int .u8 50), .lit (.int .u8 38), .lit (.int .u8 29), .lit (.int .u8 17), .lit (.int .u8 4), .lit (.int .u8 62), .lit (.int .u8 47), .lit (.int .u8 59), .lit (.int .u8 36), .lit (.int .u8 45), .lit (.int .u8 43), .lit (.int .u8 51), .lit (.int .u8 22), .lit (.int .u8 53), .lit (.int .u8 39), .lit (.int .u8 33), .lit (.int .u8 30), .lit (.int .u8 24), .lit (.int .u8 18), .lit (.int .u8 12), .lit (.int .u8 5), .lit (.int .u8 63), .lit (.int .u8 55), .lit (.int .u8 48), .lit (.int .u8 27), .lit (.int .u8 60), .lit (.int .u8 41), .lit (.int .u8 37), .lit (.int .u8 16), .lit (.int .u8 46), .lit (.int .u8 35), .lit (.int .u8 44), .lit (.int .u8 21), .lit (.int .u8 52), .lit (.int .u8 32), .lit (.int .u8 23), .lit (.int .u8 11), .lit (.int .u8 54), .lit (.int .u8 26), .lit (.int .u8 40), .lit (.int .u8 15), .lit (.int .u8 34), .lit (.int .u8 20), .lit (.int .u8 31), .lit (.int .u8 10), .lit (.int .u8 25), .lit (.int .u8 14), .lit (.int .u8 19), .lit (.int .u8 9), .lit (.int .u8 13), .lit (.int .u8 8), .lit (.int .u8 7), .lit (.int .u8 6)]
def laid_internal_strconv_uint64pow10 {H : Type} : DataW H := .agg [.lit (.int .u64 1), .lit (.int .u64 10), .lit (.int .u64 100), .lit (.int .u64 1000), .lit (.int .u64 10000), .lit (.int .u64 100000), .lit (.int .u64 1000000), .lit (.int .u64 10000000), .lit (.int .u64 100000000), .lit (.int .u64 1000000000), .lit (.int .u64 10000000000), .lit (.int .u64 100000000000), .lit (.int .u64 1000000000000), .lit (.int .u64 10000000000000), .lit (.int .u64 100000000000000), .lit (.int .u64 1000000000000000), .lit (.int .u64 10000000000000000), .lit (.int .u64 100000000000000000), .lit (.int .u64 1000000000000000000), .lit (.int .u64 10000000000000000000)]
def laid_giro_date_monthLengths {H : Type} : DataW H := .agg [.lit (.int .i64 31), .lit (.int .i64 28), .lit (.int .i64 31), .lit (.int .i64 30), .lit (.int .i64 31), .lit (.int .i64 30), .lit (.int .i64 31), .lit (.int .i64 31), .lit (.int .i64 30), .lit (.int .i64 31), .lit (.int .i64 30), .lit (.int .i64 31)]

/-- 'girolaw03.DateCivil': WHATEVER THE INPUT: true; the input reads as it did. -/
def dateCivilSpec : ChangeSpec := { name := "dateCivil", fn := fun _ => fun
  | [d] => { results := [.lit (.bool true)], args := [d] }
  | _ => none }
def dateCivilRow : OpenClaim := { program := "ytahfjhmgmpbmkacdoor", sum := "b28d7721568165d5b0670edb70c4a408449047a0d9b977756611b9cef76f2cfa", func := "giro/girolaw03.DateCivil", spec := "dateCivil", unfollowed := true, recurses := true, named := ["giro/date.monthLengths", "internal/strconv.uint64pow10", "math/bits.deBruijn32tab", "math/bits.deBruijn64tab"], apart := false, laid := [("math/bits.deBruijn32tab", laid_math_bits_deBruijn32tab), ("math/bits.deBruijn64tab", laid_math_bits_deBruijn64tab), ("internal/strconv.uint64pow10", laid_internal_strconv_uint64pow10), ("giro/date.monthLengths", laid_giro_date_monthLengths)] }
def DateCivilSaid : Prop := dateCivilRow.holds Tryd.pinned (OpenSpec.ofChange dateCivilSpec)

/-- ITS FALSE NEIGHBOUR: 'it returns false'. Refute it at one input. -/
def dateCivilWrong : ChangeSpec := { name := "dateCivil", fn := fun _ => fun
  | [d] => { results := [.lit (.bool false)], args := [d] }
  | _ => none }
def DateCivilWrongFalsely : Prop := dateCivilRow.holds Tryd.pinned (OpenSpec.ofChange dateCivilWrong)

/-- 'girolaw03.DateFromCivil': WHATEVER THE INPUT: true; the input reads as it did. -/
def dateFromCivilSpec : ChangeSpec := { name := "dateFromCivil", fn := fun _ => fun
  | [d] => { results := [.lit (.bool true)], args := [d] }
  | _ => none }
def dateFromCivilRow : OpenClaim := { program := "ytahfjhmgmpbmkacdoor", sum := "b28d7721568165d5b0670edb70c4a408449047a0d9b977756611b9cef76f2cfa", func := "giro/girolaw03.DateFromCivil", spec := "dateFromCivil", unfollowed := true, recurses := true, named := ["giro/date.monthLengths", "internal/strconv.uint64pow10", "math/bits.deBruijn32tab", "math/bits.deBruijn64tab"], apart := false, laid := [("math/bits.deBruijn32tab", laid_math_bits_deBruijn32tab), ("math/bits.deBruijn64tab", laid_math_bits_deBruijn64tab), ("internal/strconv.uint64pow10", laid_internal_strconv_uint64pow10), ("giro/date.monthLengths", laid_giro_date_monthLengths)] }
def DateFromCivilSaid : Prop := dateFromCivilRow.holds Tryd.pinned (OpenSpec.ofChange dateFromCivilSpec)

/-- ITS FALSE NEIGHBOUR: 'it returns false'. Refute it at one input. -/
def dateFromCivilWrong : ChangeSpec := { name := "dateFromCivil", fn := fun _ => fun
  | [d] => { results := [.lit (.bool false)], args := [d] }
  | _ => none }
def DateFromCivilWrongFalsely : Prop := dateFromCivilRow.holds Tryd.pinned (OpenSpec.ofChange dateFromCivilWrong)

/-- 'girolaw03.DateMonthLengths': WHATEVER THE INPUT: true; the input reads as it did. -/
def dateMonthLengthsSpec : ChangeSpec := { name := "dateMonthLengths", fn := fun _ => fun
  | [d1, d2] => { results := [.lit (.bool true)], args := [d1, d2] }
  | _ => none }
def dateMonthLengthsRow : OpenClaim := { program := "ytahfjhmgmpbmkacdoor", sum := "b28d7721568165d5b0670edb70c4a408449047a0d9b977756611b9cef76f2cfa", func := "giro/girolaw03.DateMonthLengths", spec := "dateMonthLengths", unfollowed := true, recurses := true, named := ["giro/date.monthLengths", "internal/strconv.uint64pow10", "math/bits.deBruijn32tab", "math/bits.deBruijn64tab"], apart := false, laid := [("math/bits.deBruijn32tab", laid_math_bits_deBruijn32tab), ("math/bits.deBruijn64tab", laid_math_bits_deBruijn64tab), ("internal/strconv.uint64pow10", laid_internal_strconv_uint64pow10), ("giro/date.monthLengths", laid_giro_date_monthLengths)] }
def DateMonthLengthsSaid : Prop := dateMonthLengthsRow.holds Tryd.pinned (OpenSpec.ofChange dateMonthLengthsSpec)

/-- ITS FALSE NEIGHBOUR: 'it returns false'. Refute it at one input. -/
def dateMonthLengthsWrong : ChangeSpec := { name := "dateMonthLengths", fn := fun _ => fun
  | [d1, d2] => { results := [.lit (.bool false)], args := [d1, d2] }
  | _ => none }
def DateMonthLengthsWrongFalsely : Prop := dateMonthLengthsRow.holds Tryd.pinned (OpenSpec.ofChange dateMonthLengthsWrong)

/-- 'girolaw03.DateAddMonths': WHATEVER THE INPUT: true; the input reads as it did. -/
def dateAddMonthsSpec : ChangeSpec := { name := "dateAddMonths", fn := fun _ => fun
  | [d1, d2] => { results := [.lit (.bool true)], args := [d1, d2] }
  | _ => none }
def dateAddMonthsRow : OpenClaim := { program := "ytahfjhmgmpbmkacdoor", sum := "b28d7721568165d5b0670edb70c4a408449047a0d9b977756611b9cef76f2cfa", func := "giro/girolaw03.DateAddMonths", spec := "dateAddMonths", unfollowed := true, recurses := true, named := ["giro/date.monthLengths", "internal/strconv.uint64pow10", "math/bits.deBruijn32tab", "math/bits.deBruijn64tab"], apart := false, laid := [("math/bits.deBruijn32tab", laid_math_bits_deBruijn32tab), ("math/bits.deBruijn64tab", laid_math_bits_deBruijn64tab), ("internal/strconv.uint64pow10", laid_internal_strconv_uint64pow10), ("giro/date.monthLengths", laid_giro_date_monthLengths)] }
def DateAddMonthsSaid : Prop := dateAddMonthsRow.holds Tryd.pinned (OpenSpec.ofChange dateAddMonthsSpec)

/-- ITS FALSE NEIGHBOUR: 'it returns false'. Refute it at one input. -/
def dateAddMonthsWrong : ChangeSpec := { name := "dateAddMonths", fn := fun _ => fun
  | [d1, d2] => { results := [.lit (.bool false)], args := [d1, d2] }
  | _ => none }
def DateAddMonthsWrongFalsely : Prop := dateAddMonthsRow.holds Tryd.pinned (OpenSpec.ofChange dateAddMonthsWrong)

/-- 'girolaw03.DateMonthsBetween': WHATEVER THE INPUT: true; the input reads as it did. -/
def dateMonthsBetweenSpec : ChangeSpec := { name := "dateMonthsBetween", fn := fun _ => fun
  | [d1, d2] => { results := [.lit (.bool true)], args := [d1, d2] }
  | _ => none }
def dateMonthsBetweenRow : OpenClaim := { program := "ytahfjhmgmpbmkacdoor", sum := "b28d7721568165d5b0670edb70c4a408449047a0d9b977756611b9cef76f2cfa", func := "giro/girolaw03.DateMonthsBetween", spec := "dateMonthsBetween", unfollowed := true, recurses := true, named := ["giro/date.monthLengths", "internal/strconv.uint64pow10", "math/bits.deBruijn32tab", "math/bits.deBruijn64tab"], apart := false, laid := [("math/bits.deBruijn32tab", laid_math_bits_deBruijn32tab), ("math/bits.deBruijn64tab", laid_math_bits_deBruijn64tab), ("internal/strconv.uint64pow10", laid_internal_strconv_uint64pow10), ("giro/date.monthLengths", laid_giro_date_monthLengths)] }
def DateMonthsBetweenSaid : Prop := dateMonthsBetweenRow.holds Tryd.pinned (OpenSpec.ofChange dateMonthsBetweenSpec)

/-- ITS FALSE NEIGHBOUR: 'it returns false'. Refute it at one input. -/
def dateMonthsBetweenWrong : ChangeSpec := { name := "dateMonthsBetween", fn := fun _ => fun
  | [d1, d2] => { results := [.lit (.bool false)], args := [d1, d2] }
  | _ => none }
def DateMonthsBetweenWrongFalsely : Prop := dateMonthsBetweenRow.holds Tryd.pinned (OpenSpec.ofChange dateMonthsBetweenWrong)

/-- 'girolaw03.DateWeeks': WHATEVER THE INPUT: true; the input reads as it did. -/
def dateWeeksSpec : ChangeSpec := { name := "dateWeeks", fn := fun _ => fun
  | [d] => { results := [.lit (.bool true)], args := [d] }
  | _ => none }
def dateWeeksRow : OpenClaim := { program := "ytahfjhmgmpbmkacdoor", sum := "b28d7721568165d5b0670edb70c4a408449047a0d9b977756611b9cef76f2cfa", func := "giro/girolaw03.DateWeeks", spec := "dateWeeks", unfollowed := true, recurses := true, named := ["giro/date.monthLengths", "internal/strconv.uint64pow10", "math/bits.deBruijn32tab", "math/bits.deBruijn64tab"], apart := false, laid := [("math/bits.deBruijn32tab", laid_math_bits_deBruijn32tab), ("math/bits.deBruijn64tab", laid_math_bits_deBruijn64tab), ("internal/strconv.uint64pow10", laid_internal_strconv_uint64pow10), ("giro/date.monthLengths", laid_giro_date_monthLengths)] }
def DateWeeksSaid : Prop := dateWeeksRow.holds Tryd.pinned (OpenSpec.ofChange dateWeeksSpec)

/-- ITS FALSE NEIGHBOUR: 'it returns false'. Refute it at one input. -/
def dateWeeksWrong : ChangeSpec := { name := "dateWeeks", fn := fun _ => fun
  | [d] => { results := [.lit (.bool false)], args := [d] }
  | _ => none }
def DateWeeksWrongFalsely : Prop := dateWeeksRow.holds Tryd.pinned (OpenSpec.ofChange dateWeeksWrong)

/-- 'girolaw03.DateTexts': WHATEVER THE INPUT: true; the input reads as it did. -/
def dateTextsSpec : ChangeSpec := { name := "dateTexts", fn := fun _ => fun
  | [d1, d2] => { results := [.lit (.bool true)], args := [d1, d2] }
  | _ => none }
def dateTextsRow : OpenClaim := { program := "ytahfjhmgmpbmkacdoor", sum := "b28d7721568165d5b0670edb70c4a408449047a0d9b977756611b9cef76f2cfa", func := "giro/girolaw03.DateTexts", spec := "dateTexts", unfollowed := true, recurses := true, named := ["giro/date.monthLengths", "internal/strconv.uint64pow10", "math/bits.deBruijn32tab", "math/bits.deBruijn64tab"], apart := false, laid := [("math/bits.deBruijn32tab", laid_math_bits_deBruijn32tab), ("math/bits.deBruijn64tab", laid_math_bits_deBruijn64tab), ("internal/strconv.uint64pow10", laid_internal_strconv_uint64pow10), ("giro/date.monthLengths", laid_giro_date_monthLengths)] }
def DateTextsSaid : Prop := dateTextsRow.holds Tryd.pinned (OpenSpec.ofChange dateTextsSpec)

/-- ITS FALSE NEIGHBOUR: 'it returns false'. Refute it at one input. -/
def dateTextsWrong : ChangeSpec := { name := "dateTexts", fn := fun _ => fun
  | [d1, d2] => { results := [.lit (.bool false)], args := [d1, d2] }
  | _ => none }
def DateTextsWrongFalsely : Prop := dateTextsRow.holds Tryd.pinned (OpenSpec.ofChange dateTextsWrong)

/-- 'girolaw03.DateParse': WHATEVER THE INPUT: true; the input reads as it did. -/
def dateParseSpec : ChangeSpec := { name := "dateParse", fn := fun _ => fun
  | [d] => { results := [.lit (.bool true)], args := [d] }
  | _ => none }
def dateParseRow : OpenClaim := { program := "ytahfjhmgmpbmkacdoor", sum := "b28d7721568165d5b0670edb70c4a408449047a0d9b977756611b9cef76f2cfa", func := "giro/girolaw03.DateParse", spec := "dateParse", unfollowed := true, recurses := true, named := ["giro/date.monthLengths", "internal/strconv.uint64pow10", "math/bits.deBruijn32tab", "math/bits.deBruijn64tab"], apart := false, laid := [("math/bits.deBruijn32tab", laid_math_bits_deBruijn32tab), ("math/bits.deBruijn64tab", laid_math_bits_deBruijn64tab), ("internal/strconv.uint64pow10", laid_internal_strconv_uint64pow10), ("giro/date.monthLengths", laid_giro_date_monthLengths)] }
def DateParseSaid : Prop := dateParseRow.holds Tryd.pinned (OpenSpec.ofChange dateParseSpec)

/-- ITS FALSE NEIGHBOUR: 'it returns false'. Refute it at one input. -/
def dateParseWrong : ChangeSpec := { name := "dateParse", fn := fun _ => fun
  | [d] => { results := [.lit (.bool false)], args := [d] }
  | _ => none }
def DateParseWrongFalsely : Prop := dateParseRow.holds Tryd.pinned (OpenSpec.ofChange dateParseWrong)

/-- 'girolaw03.DateClocks': WHATEVER THE INPUT: true; the input reads as it did. -/
def dateClocksSpec : ChangeSpec := { name := "dateClocks", fn := fun _ => fun
  | [d1, d2] => { results := [.lit (.bool true)], args := [d1, d2] }
  | _ => none }
def dateClocksRow : OpenClaim := { program := "ytahfjhmgmpbmkacdoor", sum := "b28d7721568165d5b0670edb70c4a408449047a0d9b977756611b9cef76f2cfa", func := "giro/girolaw03.DateClocks", spec := "dateClocks", unfollowed := true, recurses := true, named := ["giro/date.monthLengths", "internal/strconv.uint64pow10", "math/bits.deBruijn32tab", "math/bits.deBruijn64tab"], apart := false, laid := [("math/bits.deBruijn32tab", laid_math_bits_deBruijn32tab), ("math/bits.deBruijn64tab", laid_math_bits_deBruijn64tab), ("internal/strconv.uint64pow10", laid_internal_strconv_uint64pow10), ("giro/date.monthLengths", laid_giro_date_monthLengths)] }
def DateClocksSaid : Prop := dateClocksRow.holds Tryd.pinned (OpenSpec.ofChange dateClocksSpec)

/-- ITS FALSE NEIGHBOUR: 'it returns false'. Refute it at one input. -/
def dateClocksWrong : ChangeSpec := { name := "dateClocks", fn := fun _ => fun
  | [d1, d2] => { results := [.lit (.bool false)], args := [d1, d2] }
  | _ => none }
def DateClocksWrongFalsely : Prop := dateClocksRow.holds Tryd.pinned (OpenSpec.ofChange dateClocksWrong)

/-- 'girolaw03.DateWeekdays': WHATEVER THE INPUT: true; the input reads as it did. -/
def dateWeekdaysSpec : ChangeSpec := { name := "dateWeekdays", fn := fun _ => fun
  | [d] => { results := [.lit (.bool true)], args := [d] }
  | _ => none }
def dateWeekdaysRow : OpenClaim := { program := "ytahfjhmgmpbmkacdoor", sum := "b28d7721568165d5b0670edb70c4a408449047a0d9b977756611b9cef76f2cfa", func := "giro/girolaw03.DateWeekdays", spec := "dateWeekdays", unfollowed := true, recurses := true, named := ["giro/date.monthLengths", "internal/strconv.uint64pow10", "math/bits.deBruijn32tab", "math/bits.deBruijn64tab"], apart := false, laid := [("math/bits.deBruijn32tab", laid_math_bits_deBruijn32tab), ("math/bits.deBruijn64tab", laid_math_bits_deBruijn64tab), ("internal/strconv.uint64pow10", laid_internal_strconv_uint64pow10), ("giro/date.monthLengths", laid_giro_date_monthLengths)] }
def DateWeekdaysSaid : Prop := dateWeekdaysRow.holds Tryd.pinned (OpenSpec.ofChange dateWeekdaysSpec)

/-- ITS FALSE NEIGHBOUR: 'it returns false'. Refute it at one input. -/
def dateWeekdaysWrong : ChangeSpec := { name := "dateWeekdays", fn := fun _ => fun
  | [d] => { results := [.lit (.bool false)], args := [d] }
  | _ => none }
def DateWeekdaysWrongFalsely : Prop := dateWeekdaysRow.holds Tryd.pinned (OpenSpec.ofChange dateWeekdaysWrong)

/- THE SECOND FORM. 'bulk': how many values and letters a reading holds, each counted each time it is reached (what is shared counts as often as it is met; a slice's spare places count too). A statement '..UptoSaid' is the law's where the arguments, and the package variables that the reading takes, are together of bulk at most 1048576: NARROWER than '..Said'. Prove '..Said' where nothing that the law and all that it calls make is longer than what came in: it says more and counts as full. Else prove '..UptoSaid'. A law counts once. -/
mutual
def uptoBulk {H : Type} : DataW H → Nat
  | .lit (.string bytes) => bytes.length + 1
  | .lit _ => 1
  | .nil => 1
  | .ptr d => uptoBulk d + 1
  | .slice elems spare => uptoBulkAll elems + uptoBulkAll spare + 1
  | .agg parts => uptoBulkAll parts + 1
  | .iface _ d => uptoBulk d + 1
  | .map entries => uptoBulkEntries entries + 1
  | .held _ => 1
def uptoBulkAll {H : Type} : List (DataW H) → Nat
  | [] => 0
  | d :: r => uptoBulk d + uptoBulkAll r
def uptoBulkEntries {H : Type} : List (Lit × DataW H) → Nat
  | [] => 0
  | x :: r => uptoBulkEntry x + uptoBulkEntries r
def uptoBulkEntry {H : Type} : Lit × DataW H → Nat
  | (.string bytes, d) => bytes.length + uptoBulk d + 1
  | (_, d) => uptoBulk d + 1
 end
def uptoSmall : (H : Type) → List (DataW H) → Bool := fun _ ds => decide (uptoBulkAll ds ≤ 1048576)
def OpenSpec.upto (s : _root_.Go.ChangeSpec) : _root_.Go.OpenSpec := { _root_.Go.OpenSpec.ofChange s with cond := some uptoSmall }

/-- 'girolaw03.DateCivil', WHERE WHAT IT READS IS OF BULK AT MOST 1048576: true; the input reads as it did. -/
def dateCivilUptoRow : OpenClaim := { program := "ytahfjhmgmpbmkacdoor", sum := "b28d7721568165d5b0670edb70c4a408449047a0d9b977756611b9cef76f2cfa", func := "giro/girolaw03.DateCivil", spec := "dateCivil", unfollowed := true, recurses := true, named := ["giro/date.monthLengths", "internal/strconv.uint64pow10", "math/bits.deBruijn32tab", "math/bits.deBruijn64tab"], apart := false, laid := [("math/bits.deBruijn32tab", laid_math_bits_deBruijn32tab), ("math/bits.deBruijn64tab", laid_math_bits_deBruijn64tab), ("internal/strconv.uint64pow10", laid_internal_strconv_uint64pow10), ("giro/date.monthLengths", laid_giro_date_monthLengths)], narrowed := true }
def DateCivilUptoSaid : Prop := dateCivilUptoRow.holds Tryd.pinned (OpenSpec.upto dateCivilSpec)

/-- 'girolaw03.DateFromCivil', WHERE WHAT IT READS IS OF BULK AT MOST 1048576: true; the input reads as it did. -/
def dateFromCivilUptoRow : OpenClaim := { program := "ytahfjhmgmpbmkacdoor", sum := "b28d7721568165d5b0670edb70c4a408449047a0d9b977756611b9cef76f2cfa", func := "giro/girolaw03.DateFromCivil", spec := "dateFromCivil", unfollowed := true, recurses := true, named := ["giro/date.monthLengths", "internal/strconv.uint64pow10", "math/bits.deBruijn32tab", "math/bits.deBruijn64tab"], apart := false, laid := [("math/bits.deBruijn32tab", laid_math_bits_deBruijn32tab), ("math/bits.deBruijn64tab", laid_math_bits_deBruijn64tab), ("internal/strconv.uint64pow10", laid_internal_strconv_uint64pow10), ("giro/date.monthLengths", laid_giro_date_monthLengths)], narrowed := true }
def DateFromCivilUptoSaid : Prop := dateFromCivilUptoRow.holds Tryd.pinned (OpenSpec.upto dateFromCivilSpec)

/-- 'girolaw03.DateMonthLengths', WHERE WHAT IT READS IS OF BULK AT MOST 1048576: true; the input reads as it did. -/
def dateMonthLengthsUptoRow : OpenClaim := { program := "ytahfjhmgmpbmkacdoor", sum := "b28d7721568165d5b0670edb70c4a408449047a0d9b977756611b9cef76f2cfa", func := "giro/girolaw03.DateMonthLengths", spec := "dateMonthLengths", unfollowed := true, recurses := true, named := ["giro/date.monthLengths", "internal/strconv.uint64pow10", "math/bits.deBruijn32tab", "math/bits.deBruijn64tab"], apart := false, laid := [("math/bits.deBruijn32tab", laid_math_bits_deBruijn32tab), ("math/bits.deBruijn64tab", laid_math_bits_deBruijn64tab), ("internal/strconv.uint64pow10", laid_internal_strconv_uint64pow10), ("giro/date.monthLengths", laid_giro_date_monthLengths)], narrowed := true }
def DateMonthLengthsUptoSaid : Prop := dateMonthLengthsUptoRow.holds Tryd.pinned (OpenSpec.upto dateMonthLengthsSpec)

/-- 'girolaw03.DateAddMonths', WHERE WHAT IT READS IS OF BULK AT MOST 1048576: true; the input reads as it did. -/
def dateAddMonthsUptoRow : OpenClaim := { program := "ytahfjhmgmpbmkacdoor", sum := "b28d7721568165d5b0670edb70c4a408449047a0d9b977756611b9cef76f2cfa", func := "giro/girolaw03.DateAddMonths", spec := "dateAddMonths", unfollowed := true, recurses := true, named := ["giro/date.monthLengths", "internal/strconv.uint64pow10", "math/bits.deBruijn32tab", "math/bits.deBruijn64tab"], apart := false, laid := [("math/bits.deBruijn32tab", laid_math_bits_deBruijn32tab), ("math/bits.deBruijn64tab", laid_math_bits_deBruijn64tab), ("internal/strconv.uint64pow10", laid_internal_strconv_uint64pow10), ("giro/date.monthLengths", laid_giro_date_monthLengths)], narrowed := true }
def DateAddMonthsUptoSaid : Prop := dateAddMonthsUptoRow.holds Tryd.pinned (OpenSpec.upto dateAddMonthsSpec)

/-- 'girolaw03.DateMonthsBetween', WHERE WHAT IT READS IS OF BULK AT MOST 1048576: true; the input reads as it did. -/
def dateMonthsBetweenUptoRow : OpenClaim := { program := "ytahfjhmgmpbmkacdoor", sum := "b28d7721568165d5b0670edb70c4a408449047a0d9b977756611b9cef76f2cfa", func := "giro/girolaw03.DateMonthsBetween", spec := "dateMonthsBetween", unfollowed := true, recurses := true, named := ["giro/date.monthLengths", "internal/strconv.uint64pow10", "math/bits.deBruijn32tab", "math/bits.deBruijn64tab"], apart := false, laid := [("math/bits.deBruijn32tab", laid_math_bits_deBruijn32tab), ("math/bits.deBruijn64tab", laid_math_bits_deBruijn64tab), ("internal/strconv.uint64pow10", laid_internal_strconv_uint64pow10), ("giro/date.monthLengths", laid_giro_date_monthLengths)], narrowed := true }
def DateMonthsBetweenUptoSaid : Prop := dateMonthsBetweenUptoRow.holds Tryd.pinned (OpenSpec.upto dateMonthsBetweenSpec)

/-- 'girolaw03.DateWeeks', WHERE WHAT IT READS IS OF BULK AT MOST 1048576: true; the input reads as it did. -/
def dateWeeksUptoRow : OpenClaim := { program := "ytahfjhmgmpbmkacdoor", sum := "b28d7721568165d5b0670edb70c4a408449047a0d9b977756611b9cef76f2cfa", func := "giro/girolaw03.DateWeeks", spec := "dateWeeks", unfollowed := true, recurses := true, named := ["giro/date.monthLengths", "internal/strconv.uint64pow10", "math/bits.deBruijn32tab", "math/bits.deBruijn64tab"], apart := false, laid := [("math/bits.deBruijn32tab", laid_math_bits_deBruijn32tab), ("math/bits.deBruijn64tab", laid_math_bits_deBruijn64tab), ("internal/strconv.uint64pow10", laid_internal_strconv_uint64pow10), ("giro/date.monthLengths", laid_giro_date_monthLengths)], narrowed := true }
def DateWeeksUptoSaid : Prop := dateWeeksUptoRow.holds Tryd.pinned (OpenSpec.upto dateWeeksSpec)

/-- 'girolaw03.DateTexts', WHERE WHAT IT READS IS OF BULK AT MOST 1048576: true; the input reads as it did. -/
def dateTextsUptoRow : OpenClaim := { program := "ytahfjhmgmpbmkacdoor", sum := "b28d7721568165d5b0670edb70c4a408449047a0d9b977756611b9cef76f2cfa", func := "giro/girolaw03.DateTexts", spec := "dateTexts", unfollowed := true, recurses := true, named := ["giro/date.monthLengths", "internal/strconv.uint64pow10", "math/bits.deBruijn32tab", "math/bits.deBruijn64tab"], apart := false, laid := [("math/bits.deBruijn32tab", laid_math_bits_deBruijn32tab), ("math/bits.deBruijn64tab", laid_math_bits_deBruijn64tab), ("internal/strconv.uint64pow10", laid_internal_strconv_uint64pow10), ("giro/date.monthLengths", laid_giro_date_monthLengths)], narrowed := true }
def DateTextsUptoSaid : Prop := dateTextsUptoRow.holds Tryd.pinned (OpenSpec.upto dateTextsSpec)

/-- 'girolaw03.DateParse', WHERE WHAT IT READS IS OF BULK AT MOST 1048576: true; the input reads as it did. -/
def dateParseUptoRow : OpenClaim := { program := "ytahfjhmgmpbmkacdoor", sum := "b28d7721568165d5b0670edb70c4a408449047a0d9b977756611b9cef76f2cfa", func := "giro/girolaw03.DateParse", spec := "dateParse", unfollowed := true, recurses := true, named := ["giro/date.monthLengths", "internal/strconv.uint64pow10", "math/bits.deBruijn32tab", "math/bits.deBruijn64tab"], apart := false, laid := [("math/bits.deBruijn32tab", laid_math_bits_deBruijn32tab), ("math/bits.deBruijn64tab", laid_math_bits_deBruijn64tab), ("internal/strconv.uint64pow10", laid_internal_strconv_uint64pow10), ("giro/date.monthLengths", laid_giro_date_monthLengths)], narrowed := true }
def DateParseUptoSaid : Prop := dateParseUptoRow.holds Tryd.pinned (OpenSpec.upto dateParseSpec)

/-- 'girolaw03.DateClocks', WHERE WHAT IT READS IS OF BULK AT MOST 1048576: true; the input reads as it did. -/
def dateClocksUptoRow : OpenClaim := { program := "ytahfjhmgmpbmkacdoor", sum := "b28d7721568165d5b0670edb70c4a408449047a0d9b977756611b9cef76f2cfa", func := "giro/girolaw03.DateClocks", spec := "dateClocks", unfollowed := true, recurses := true, named := ["giro/date.monthLengths", "internal/strconv.uint64pow10", "math/bits.deBruijn32tab", "math/bits.deBruijn64tab"], apart := false, laid := [("math/bits.deBruijn32tab", laid_math_bits_deBruijn32tab), ("math/bits.deBruijn64tab", laid_math_bits_deBruijn64tab), ("internal/strconv.uint64pow10", laid_internal_strconv_uint64pow10), ("giro/date.monthLengths", laid_giro_date_monthLengths)], narrowed := true }
def DateClocksUptoSaid : Prop := dateClocksUptoRow.holds Tryd.pinned (OpenSpec.upto dateClocksSpec)

/-- 'girolaw03.DateWeekdays', WHERE WHAT IT READS IS OF BULK AT MOST 1048576: true; the input reads as it did. -/
def dateWeekdaysUptoRow : OpenClaim := { program := "ytahfjhmgmpbmkacdoor", sum := "b28d7721568165d5b0670edb70c4a408449047a0d9b977756611b9cef76f2cfa", func := "giro/girolaw03.DateWeekdays", spec := "dateWeekdays", unfollowed := true, recurses := true, named := ["giro/date.monthLengths", "internal/strconv.uint64pow10", "math/bits.deBruijn32tab", "math/bits.deBruijn64tab"], apart := false, laid := [("math/bits.deBruijn32tab", laid_math_bits_deBruijn32tab), ("math/bits.deBruijn64tab", laid_math_bits_deBruijn64tab), ("internal/strconv.uint64pow10", laid_internal_strconv_uint64pow10), ("giro/date.monthLengths", laid_giro_date_monthLengths)], narrowed := true }
def DateWeekdaysUptoSaid : Prop := dateWeekdaysUptoRow.holds Tryd.pinned (OpenSpec.upto dateWeekdaysSpec)

end Rows
end Go.Proofs.YtahfjhmgmpbmkacDoor
