/-
  DERIVED. GIVEN WITH THE SEED: THE CARDS: each row of YtjcldaofgbcpaaaDoorRows.lean that lists a variable, with what it lists TIED to the program's text (the seventh form; the later family's looks); each row that meets fmt, with fmt's text TOLD by the authors' own Lean function (tested against real Go, not proved from fmt's source: count such statements apart). THE CARD IS WHAT COUNTS. Prove the row's statement (the work); the ties are given (YtjcldaofgbcpaaaDoorTie.lean); close each card by the builder's one call (the guide's Derived/Test/ToyasCard.lean, 'card_holds'). Laid BY PROGRAM, IN A SANDBOX (cutbox-door.mjs). By AI agents, Wed Nov 11 2026. No macro, syntax, notation, axiom, sorry.
-/
import Derived.Test.YtjcldaofgbcpaaaDoorRows
import GoSem.ClaimSeven
namespace Go.Proofs.YtjcldaofgbcpaaaDoor
namespace Rows

/-- THE TIED CARD OF 'girolaw05.IdentCheck'. -/
def identCheckCard : Claim7 := { stood := { row := identCheckRow, standIns := [], harness := (true, "a065eabf803c113c5dcb5002244fda648b87e50e8cc4335c5e25916709c68060"), looks := false }, kinds := [], alts := [], laidByText := true, laidKinds := [.data], laidTests := true, laidLooks := .later }
def IdentCheckCardSaid : Prop := Claim7.holds Tryd.pinned (.plain (OpenSpec.ofChange identCheckSpec)) identCheckCard

/-- THE TIED CARD OF 'girolaw05.IdentISINCheckDigit'. -/
def identISINCheckDigitCard : Claim7 := { stood := { row := identISINCheckDigitRow, standIns := [], harness := (true, "a065eabf803c113c5dcb5002244fda648b87e50e8cc4335c5e25916709c68060"), looks := false }, kinds := [], alts := [], laidByText := true, laidKinds := [.data], laidTests := true, laidLooks := .later }
def IdentISINCheckDigitCardSaid : Prop := Claim7.holds Tryd.pinned (.plain (OpenSpec.ofChange identISINCheckDigitSpec)) identISINCheckDigitCard

/-- THE TIED CARD OF 'girolaw05.IdentLEICheckDigits'. -/
def identLEICheckDigitsCard : Claim7 := { stood := { row := identLEICheckDigitsRow, standIns := [], harness := (true, "a065eabf803c113c5dcb5002244fda648b87e50e8cc4335c5e25916709c68060"), looks := false }, kinds := [], alts := [], laidByText := true, laidKinds := [.data], laidTests := true, laidLooks := .later }
def IdentLEICheckDigitsCardSaid : Prop := Claim7.holds Tryd.pinned (.plain (OpenSpec.ofChange identLEICheckDigitsSpec)) identLEICheckDigitsCard

/-- THE TIED CARD OF 'girolaw05.IdentMakeISIN'. -/
def identMakeISINCard : Claim7 := { stood := { row := identMakeISINRow, standIns := [], harness := (true, "a065eabf803c113c5dcb5002244fda648b87e50e8cc4335c5e25916709c68060"), looks := false }, kinds := [], alts := [], laidByText := true, laidKinds := [.data], laidTests := true, laidLooks := .later }
def IdentMakeISINCardSaid : Prop := Claim7.holds Tryd.pinned (.plain (OpenSpec.ofChange identMakeISINSpec)) identMakeISINCard

/-- THE TIED CARD OF 'girolaw05.IdentISINUnique'. -/
def identISINUniqueCard : Claim7 := { stood := { row := identISINUniqueRow, standIns := [], harness := (true, "a065eabf803c113c5dcb5002244fda648b87e50e8cc4335c5e25916709c68060"), looks := false }, kinds := [], alts := [], laidByText := true, laidKinds := [.data], laidTests := true, laidLooks := .later }
def IdentISINUniqueCardSaid : Prop := Claim7.holds Tryd.pinned (.plain (OpenSpec.ofChange identISINUniqueSpec)) identISINUniqueCard

/-- THE TIED CARD OF 'girolaw05.IdentLEIUnique'. -/
def identLEIUniqueCard : Claim7 := { stood := { row := identLEIUniqueRow, standIns := [], harness := (true, "a065eabf803c113c5dcb5002244fda648b87e50e8cc4335c5e25916709c68060"), looks := false }, kinds := [], alts := [], laidByText := true, laidKinds := [.data], laidTests := true, laidLooks := .later }
def IdentLEIUniqueCardSaid : Prop := Claim7.holds Tryd.pinned (.plain (OpenSpec.ofChange identLEIUniqueSpec)) identLEIUniqueCard

/-- THE TIED CARD OF 'girolaw05.IdentISINSubstitution'. -/
def identISINSubstitutionCard : Claim7 := { stood := { row := identISINSubstitutionRow, standIns := [], harness := (true, "a065eabf803c113c5dcb5002244fda648b87e50e8cc4335c5e25916709c68060"), looks := false }, kinds := [], alts := [], laidByText := true, laidKinds := [.data], laidTests := true, laidLooks := .later }
def IdentISINSubstitutionCardSaid : Prop := Claim7.holds Tryd.pinned (.plain (OpenSpec.ofChange identISINSubstitutionSpec)) identISINSubstitutionCard

/-- THE TIED CARD OF 'girolaw05.IdentLEISubstitution'. -/
def identLEISubstitutionCard : Claim7 := { stood := { row := identLEISubstitutionRow, standIns := [], harness := (true, "a065eabf803c113c5dcb5002244fda648b87e50e8cc4335c5e25916709c68060"), looks := false }, kinds := [], alts := [], laidByText := true, laidKinds := [.data], laidTests := true, laidLooks := .later }
def IdentLEISubstitutionCardSaid : Prop := Claim7.holds Tryd.pinned (.plain (OpenSpec.ofChange identLEISubstitutionSpec)) identLEISubstitutionCard

/-- THE TIED CARD OF 'girolaw05.IdentPrefix'. -/
def identPrefixCard : Claim7 := { stood := { row := identPrefixRow, standIns := [], harness := (true, "a065eabf803c113c5dcb5002244fda648b87e50e8cc4335c5e25916709c68060"), looks := false }, kinds := [], alts := [], laidByText := true, laidKinds := [.data], laidTests := true, laidLooks := .later }
def IdentPrefixCardSaid : Prop := Claim7.holds Tryd.pinned (.plain (OpenSpec.ofChange identPrefixSpec)) identPrefixCard

/-- THE SECOND FORM's CARD OF 'girolaw05.IdentCheck'. -/
def identCheckUptoCard : Claim7 := { stood := { row := identCheckUptoRow, standIns := [], harness := (true, "a065eabf803c113c5dcb5002244fda648b87e50e8cc4335c5e25916709c68060"), looks := false }, kinds := [], alts := [], laidByText := true, laidKinds := [.data], laidTests := true, laidLooks := .later }
def IdentCheckUptoCardSaid : Prop := Claim7.holds Tryd.pinned (.plain (OpenSpec.upto identCheckSpec)) identCheckUptoCard

/-- THE SECOND FORM's CARD OF 'girolaw05.IdentISINCheckDigit'. -/
def identISINCheckDigitUptoCard : Claim7 := { stood := { row := identISINCheckDigitUptoRow, standIns := [], harness := (true, "a065eabf803c113c5dcb5002244fda648b87e50e8cc4335c5e25916709c68060"), looks := false }, kinds := [], alts := [], laidByText := true, laidKinds := [.data], laidTests := true, laidLooks := .later }
def IdentISINCheckDigitUptoCardSaid : Prop := Claim7.holds Tryd.pinned (.plain (OpenSpec.upto identISINCheckDigitSpec)) identISINCheckDigitUptoCard

/-- THE SECOND FORM's CARD OF 'girolaw05.IdentLEICheckDigits'. -/
def identLEICheckDigitsUptoCard : Claim7 := { stood := { row := identLEICheckDigitsUptoRow, standIns := [], harness := (true, "a065eabf803c113c5dcb5002244fda648b87e50e8cc4335c5e25916709c68060"), looks := false }, kinds := [], alts := [], laidByText := true, laidKinds := [.data], laidTests := true, laidLooks := .later }
def IdentLEICheckDigitsUptoCardSaid : Prop := Claim7.holds Tryd.pinned (.plain (OpenSpec.upto identLEICheckDigitsSpec)) identLEICheckDigitsUptoCard

/-- THE SECOND FORM's CARD OF 'girolaw05.IdentMakeISIN'. -/
def identMakeISINUptoCard : Claim7 := { stood := { row := identMakeISINUptoRow, standIns := [], harness := (true, "a065eabf803c113c5dcb5002244fda648b87e50e8cc4335c5e25916709c68060"), looks := false }, kinds := [], alts := [], laidByText := true, laidKinds := [.data], laidTests := true, laidLooks := .later }
def IdentMakeISINUptoCardSaid : Prop := Claim7.holds Tryd.pinned (.plain (OpenSpec.upto identMakeISINSpec)) identMakeISINUptoCard

/-- THE SECOND FORM's CARD OF 'girolaw05.IdentISINUnique'. -/
def identISINUniqueUptoCard : Claim7 := { stood := { row := identISINUniqueUptoRow, standIns := [], harness := (true, "a065eabf803c113c5dcb5002244fda648b87e50e8cc4335c5e25916709c68060"), looks := false }, kinds := [], alts := [], laidByText := true, laidKinds := [.data], laidTests := true, laidLooks := .later }
def IdentISINUniqueUptoCardSaid : Prop := Claim7.holds Tryd.pinned (.plain (OpenSpec.upto identISINUniqueSpec)) identISINUniqueUptoCard

/-- THE SECOND FORM's CARD OF 'girolaw05.IdentLEIUnique'. -/
def identLEIUniqueUptoCard : Claim7 := { stood := { row := identLEIUniqueUptoRow, standIns := [], harness := (true, "a065eabf803c113c5dcb5002244fda648b87e50e8cc4335c5e25916709c68060"), looks := false }, kinds := [], alts := [], laidByText := true, laidKinds := [.data], laidTests := true, laidLooks := .later }
def IdentLEIUniqueUptoCardSaid : Prop := Claim7.holds Tryd.pinned (.plain (OpenSpec.upto identLEIUniqueSpec)) identLEIUniqueUptoCard

/-- THE SECOND FORM's CARD OF 'girolaw05.IdentISINSubstitution'. -/
def identISINSubstitutionUptoCard : Claim7 := { stood := { row := identISINSubstitutionUptoRow, standIns := [], harness := (true, "a065eabf803c113c5dcb5002244fda648b87e50e8cc4335c5e25916709c68060"), looks := false }, kinds := [], alts := [], laidByText := true, laidKinds := [.data], laidTests := true, laidLooks := .later }
def IdentISINSubstitutionUptoCardSaid : Prop := Claim7.holds Tryd.pinned (.plain (OpenSpec.upto identISINSubstitutionSpec)) identISINSubstitutionUptoCard

/-- THE SECOND FORM's CARD OF 'girolaw05.IdentLEISubstitution'. -/
def identLEISubstitutionUptoCard : Claim7 := { stood := { row := identLEISubstitutionUptoRow, standIns := [], harness := (true, "a065eabf803c113c5dcb5002244fda648b87e50e8cc4335c5e25916709c68060"), looks := false }, kinds := [], alts := [], laidByText := true, laidKinds := [.data], laidTests := true, laidLooks := .later }
def IdentLEISubstitutionUptoCardSaid : Prop := Claim7.holds Tryd.pinned (.plain (OpenSpec.upto identLEISubstitutionSpec)) identLEISubstitutionUptoCard

/-- THE SECOND FORM's CARD OF 'girolaw05.IdentPrefix'. -/
def identPrefixUptoCard : Claim7 := { stood := { row := identPrefixUptoRow, standIns := [], harness := (true, "a065eabf803c113c5dcb5002244fda648b87e50e8cc4335c5e25916709c68060"), looks := false }, kinds := [], alts := [], laidByText := true, laidKinds := [.data], laidTests := true, laidLooks := .later }
def IdentPrefixUptoCardSaid : Prop := Claim7.holds Tryd.pinned (.plain (OpenSpec.upto identPrefixSpec)) identPrefixUptoCard
end Rows
end Go.Proofs.YtjcldaofgbcpaaaDoor
