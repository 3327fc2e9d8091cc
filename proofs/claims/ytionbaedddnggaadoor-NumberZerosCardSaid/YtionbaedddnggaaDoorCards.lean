/-
  DERIVED. GIVEN WITH THE SEED: THE CARDS: each row of YtionbaedddnggaaDoorRows.lean that lists a variable, with what it lists TIED to the program's text (the seventh form; the later family's looks); each row that meets fmt, with fmt's text TOLD by the authors' own Lean function (tested against real Go, not proved from fmt's source: count such statements apart). THE CARD IS WHAT COUNTS. Prove the row's statement (the work); the ties are given (YtionbaedddnggaaDoorTie.lean); close each card by the builder's one call (the guide's Derived/Test/ToyasCard.lean, 'card_holds'). Laid BY PROGRAM, IN A SANDBOX (cutbox-door.mjs). By AI agents, Wed Nov 11 2026. No macro, syntax, notation, axiom, sorry.
-/
import Derived.Test.YtionbaedddnggaaDoorRows
import GoSem.ClaimSeven
namespace Go.Proofs.YtionbaedddnggaaDoor
namespace Rows

/-- THE TIED CARD OF 'flaillaw04.NumberFixes'. -/
def numberFixesCard : Claim7 := { stood := { row := numberFixesRow, standIns := [], harness := (true, "debad9fa192dd80b2fb5f6e7c057a8ea84c9031f1e92079952eda0490727aef9"), looks := false }, kinds := [], alts := [], laidByText := true, laidKinds := [.data], laidTests := true, laidLooks := .later }
def NumberFixesCardSaid : Prop := Claim7.holds Tryd.pinned (.plain (OpenSpec.ofChange numberFixesSpec)) numberFixesCard

/-- THE TIED CARD OF 'flaillaw04.NumberReads'. -/
def numberReadsCard : Claim7 := { stood := { row := numberReadsRow, standIns := [], harness := (true, "debad9fa192dd80b2fb5f6e7c057a8ea84c9031f1e92079952eda0490727aef9"), looks := false }, kinds := [], alts := [], laidByText := true, laidKinds := [.data], laidTests := true, laidLooks := .later }
def NumberReadsCardSaid : Prop := Claim7.holds Tryd.pinned (.plain (OpenSpec.ofChange numberReadsSpec)) numberReadsCard

/-- THE TIED CARD OF 'flaillaw04.NumberZeros'. -/
def numberZerosCard : Claim7 := { stood := { row := numberZerosRow, standIns := [], harness := (true, "debad9fa192dd80b2fb5f6e7c057a8ea84c9031f1e92079952eda0490727aef9"), looks := false }, kinds := [], alts := [], laidByText := true, laidKinds := [.data], laidTests := true, laidLooks := .later }
def NumberZerosCardSaid : Prop := Claim7.holds Tryd.pinned (.plain (OpenSpec.ofChange numberZerosSpec)) numberZerosCard

/-- THE TIED CARD OF 'flaillaw04.NumberTold'. -/
def numberToldCard : Claim7 := { stood := { row := numberToldRow, standIns := [], harness := (true, "debad9fa192dd80b2fb5f6e7c057a8ea84c9031f1e92079952eda0490727aef9"), looks := false }, kinds := [], alts := [], laidByText := true, laidKinds := [.data], laidTests := true, laidLooks := .later }
def NumberToldCardSaid : Prop := Claim7.holds Tryd.pinned (.plain (OpenSpec.ofChange numberToldSpec)) numberToldCard

/-- THE TIED CARD OF 'flaillaw04.NumberEnds'. -/
def numberEndsCard : Claim7 := { stood := { row := numberEndsRow, standIns := [], harness := (true, "debad9fa192dd80b2fb5f6e7c057a8ea84c9031f1e92079952eda0490727aef9"), looks := false }, kinds := [], alts := [], laidByText := true, laidKinds := [.data], laidTests := true, laidLooks := .later }
def NumberEndsCardSaid : Prop := Claim7.holds Tryd.pinned (.plain (OpenSpec.ofChange numberEndsSpec)) numberEndsCard

/-- THE TIED CARD OF 'flaillaw04.NumberHex'. -/
def numberHexCard : Claim7 := { stood := { row := numberHexRow, standIns := [], harness := (true, "debad9fa192dd80b2fb5f6e7c057a8ea84c9031f1e92079952eda0490727aef9"), looks := false }, kinds := [], alts := [], laidByText := true, laidKinds := [.data], laidTests := true, laidLooks := .later }
def NumberHexCardSaid : Prop := Claim7.holds Tryd.pinned (.plain (OpenSpec.ofChange numberHexSpec)) numberHexCard

/-- THE SECOND FORM's CARD OF 'flaillaw04.NumberFixes'. -/
def numberFixesUptoCard : Claim7 := { stood := { row := numberFixesUptoRow, standIns := [], harness := (true, "debad9fa192dd80b2fb5f6e7c057a8ea84c9031f1e92079952eda0490727aef9"), looks := false }, kinds := [], alts := [], laidByText := true, laidKinds := [.data], laidTests := true, laidLooks := .later }
def NumberFixesUptoCardSaid : Prop := Claim7.holds Tryd.pinned (.plain (OpenSpec.upto numberFixesSpec)) numberFixesUptoCard

/-- THE SECOND FORM's CARD OF 'flaillaw04.NumberReads'. -/
def numberReadsUptoCard : Claim7 := { stood := { row := numberReadsUptoRow, standIns := [], harness := (true, "debad9fa192dd80b2fb5f6e7c057a8ea84c9031f1e92079952eda0490727aef9"), looks := false }, kinds := [], alts := [], laidByText := true, laidKinds := [.data], laidTests := true, laidLooks := .later }
def NumberReadsUptoCardSaid : Prop := Claim7.holds Tryd.pinned (.plain (OpenSpec.upto numberReadsSpec)) numberReadsUptoCard

/-- THE SECOND FORM's CARD OF 'flaillaw04.NumberZeros'. -/
def numberZerosUptoCard : Claim7 := { stood := { row := numberZerosUptoRow, standIns := [], harness := (true, "debad9fa192dd80b2fb5f6e7c057a8ea84c9031f1e92079952eda0490727aef9"), looks := false }, kinds := [], alts := [], laidByText := true, laidKinds := [.data], laidTests := true, laidLooks := .later }
def NumberZerosUptoCardSaid : Prop := Claim7.holds Tryd.pinned (.plain (OpenSpec.upto numberZerosSpec)) numberZerosUptoCard

/-- THE SECOND FORM's CARD OF 'flaillaw04.NumberTold'. -/
def numberToldUptoCard : Claim7 := { stood := { row := numberToldUptoRow, standIns := [], harness := (true, "debad9fa192dd80b2fb5f6e7c057a8ea84c9031f1e92079952eda0490727aef9"), looks := false }, kinds := [], alts := [], laidByText := true, laidKinds := [.data], laidTests := true, laidLooks := .later }
def NumberToldUptoCardSaid : Prop := Claim7.holds Tryd.pinned (.plain (OpenSpec.upto numberToldSpec)) numberToldUptoCard

/-- THE SECOND FORM's CARD OF 'flaillaw04.NumberEnds'. -/
def numberEndsUptoCard : Claim7 := { stood := { row := numberEndsUptoRow, standIns := [], harness := (true, "debad9fa192dd80b2fb5f6e7c057a8ea84c9031f1e92079952eda0490727aef9"), looks := false }, kinds := [], alts := [], laidByText := true, laidKinds := [.data], laidTests := true, laidLooks := .later }
def NumberEndsUptoCardSaid : Prop := Claim7.holds Tryd.pinned (.plain (OpenSpec.upto numberEndsSpec)) numberEndsUptoCard

/-- THE SECOND FORM's CARD OF 'flaillaw04.NumberHex'. -/
def numberHexUptoCard : Claim7 := { stood := { row := numberHexUptoRow, standIns := [], harness := (true, "debad9fa192dd80b2fb5f6e7c057a8ea84c9031f1e92079952eda0490727aef9"), looks := false }, kinds := [], alts := [], laidByText := true, laidKinds := [.data], laidTests := true, laidLooks := .later }
def NumberHexUptoCardSaid : Prop := Claim7.holds Tryd.pinned (.plain (OpenSpec.upto numberHexSpec)) numberHexUptoCard
end Rows
end Go.Proofs.YtionbaedddnggaaDoor
