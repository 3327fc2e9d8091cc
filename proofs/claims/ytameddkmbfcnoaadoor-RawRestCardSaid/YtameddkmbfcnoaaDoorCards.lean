/-
  DERIVED. GIVEN WITH THE SEED: THE CARDS: each row of YtameddkmbfcnoaaDoorRows.lean that lists a variable, with what it lists TIED to the program's text (the seventh form; the later family's looks); each row that meets fmt, with fmt's text TOLD by the authors' own Lean function (tested against real Go, not proved from fmt's source: count such statements apart). THE CARD IS WHAT COUNTS. Prove the row's statement (the work); the ties are given (YtameddkmbfcnoaaDoorTie.lean); close each card by the builder's one call (the guide's Derived/Test/ToyasCard.lean, 'card_holds'). Laid BY PROGRAM, IN A SANDBOX (cutbox-door.mjs). By AI agents, Wed Nov 11 2026. No macro, syntax, notation, axiom, sorry.
-/
import Derived.Test.YtameddkmbfcnoaaDoorRows
import GoSem.ClaimSeven
namespace Go.Proofs.YtameddkmbfcnoaaDoor
namespace Rows

/-- THE TIED CARD OF 'flaillaw12.RawFirst'. -/
def rawFirstCard : Claim7 := { stood := { row := rawFirstRow, standIns := [], harness := (true, "5c314323a42ea596155510a961b09b7126506b88fa927df98a213946c06eb713"), looks := true }, kinds := [], alts := [], laidByText := true, laidKinds := [.data, .data, .data, .sentinel, .sentinel, .data], laidTests := true, laidLooks := .later }
def RawFirstCardSaid : Prop := Claim7.holds Tryd.pinned (.plain (OpenSpec.ofChange rawFirstSpec)) rawFirstCard

/-- THE TIED CARD OF 'flaillaw12.RawWritten'. -/
def rawWrittenCard : Claim7 := { stood := { row := rawWrittenRow, standIns := [], harness := (true, "5c314323a42ea596155510a961b09b7126506b88fa927df98a213946c06eb713"), looks := true }, kinds := [], alts := [], laidByText := true, laidKinds := [.data, .data, .data, .sentinel, .sentinel, .data], laidTests := true, laidLooks := .later }
def RawWrittenCardSaid : Prop := Claim7.holds Tryd.pinned (.plain (OpenSpec.ofChange rawWrittenSpec)) rawWrittenCard

/-- THE TIED CARD OF 'flaillaw12.RawRest'. -/
def rawRestCard : Claim7 := { stood := { row := rawRestRow, standIns := [], harness := (true, "5c314323a42ea596155510a961b09b7126506b88fa927df98a213946c06eb713"), looks := true }, kinds := [], alts := [], laidByText := true, laidKinds := [.data, .data, .data, .sentinel, .sentinel, .data], laidTests := true, laidLooks := .later }
def RawRestCardSaid : Prop := Claim7.holds Tryd.pinned (.plain (OpenSpec.ofChange rawRestSpec)) rawRestCard

/-- THE TIED CARD OF 'flaillaw12.RawCase'. -/
def rawCaseCard : Claim7 := { stood := { row := rawCaseRow, standIns := [], harness := (true, "5c314323a42ea596155510a961b09b7126506b88fa927df98a213946c06eb713"), looks := true }, kinds := [], alts := [], laidByText := true, laidKinds := [.data, .data, .data, .sentinel, .sentinel, .data], laidTests := true, laidLooks := .later }
def RawCaseCardSaid : Prop := Claim7.holds Tryd.pinned (.plain (OpenSpec.ofChange rawCaseSpec)) rawCaseCard

/-- THE SECOND FORM's CARD OF 'flaillaw12.RawFirst'. -/
def rawFirstUptoCard : Claim7 := { stood := { row := rawFirstUptoRow, standIns := [], harness := (true, "5c314323a42ea596155510a961b09b7126506b88fa927df98a213946c06eb713"), looks := true }, kinds := [], alts := [], laidByText := true, laidKinds := [.data, .data, .data, .sentinel, .sentinel, .data], laidTests := true, laidLooks := .later }
def RawFirstUptoCardSaid : Prop := Claim7.holds Tryd.pinned (.plain (OpenSpec.upto rawFirstSpec)) rawFirstUptoCard

/-- THE SECOND FORM's CARD OF 'flaillaw12.RawWritten'. -/
def rawWrittenUptoCard : Claim7 := { stood := { row := rawWrittenUptoRow, standIns := [], harness := (true, "5c314323a42ea596155510a961b09b7126506b88fa927df98a213946c06eb713"), looks := true }, kinds := [], alts := [], laidByText := true, laidKinds := [.data, .data, .data, .sentinel, .sentinel, .data], laidTests := true, laidLooks := .later }
def RawWrittenUptoCardSaid : Prop := Claim7.holds Tryd.pinned (.plain (OpenSpec.upto rawWrittenSpec)) rawWrittenUptoCard

/-- THE SECOND FORM's CARD OF 'flaillaw12.RawRest'. -/
def rawRestUptoCard : Claim7 := { stood := { row := rawRestUptoRow, standIns := [], harness := (true, "5c314323a42ea596155510a961b09b7126506b88fa927df98a213946c06eb713"), looks := true }, kinds := [], alts := [], laidByText := true, laidKinds := [.data, .data, .data, .sentinel, .sentinel, .data], laidTests := true, laidLooks := .later }
def RawRestUptoCardSaid : Prop := Claim7.holds Tryd.pinned (.plain (OpenSpec.upto rawRestSpec)) rawRestUptoCard

/-- THE SECOND FORM's CARD OF 'flaillaw12.RawCase'. -/
def rawCaseUptoCard : Claim7 := { stood := { row := rawCaseUptoRow, standIns := [], harness := (true, "5c314323a42ea596155510a961b09b7126506b88fa927df98a213946c06eb713"), looks := true }, kinds := [], alts := [], laidByText := true, laidKinds := [.data, .data, .data, .sentinel, .sentinel, .data], laidTests := true, laidLooks := .later }
def RawCaseUptoCardSaid : Prop := Claim7.holds Tryd.pinned (.plain (OpenSpec.upto rawCaseSpec)) rawCaseUptoCard
end Rows
end Go.Proofs.YtameddkmbfcnoaaDoor
