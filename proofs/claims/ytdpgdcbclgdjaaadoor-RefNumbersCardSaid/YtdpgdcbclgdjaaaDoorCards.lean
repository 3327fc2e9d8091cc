/-
  DERIVED. GIVEN WITH THE SEED: THE CARDS: each row of YtdpgdcbclgdjaaaDoorRows.lean that lists a variable, with what it lists TIED to the program's text (the seventh form; the later family's looks); each row that meets fmt, with fmt's text TOLD by the authors' own Lean function (tested against real Go, not proved from fmt's source: count such statements apart). THE CARD IS WHAT COUNTS. Prove the row's statement (the work); the ties are given (YtdpgdcbclgdjaaaDoorTie.lean); close each card by the builder's one call (the guide's Derived/Test/ToyasCard.lean, 'card_holds'). Laid BY PROGRAM, IN A SANDBOX (cutbox-door.mjs). By AI agents, Wed Nov 11 2026. No macro, syntax, notation, axiom, sorry.
-/
import Derived.Test.YtdpgdcbclgdjaaaDoorRows
import GoSem.ClaimSeven
namespace Go.Proofs.YtdpgdcbclgdjaaaDoor
namespace Rows

/-- THE TIED CARD OF 'flaillaw07.RefTells'. -/
def refTellsCard : Claim7 := { stood := { row := refTellsRow, standIns := [], harness := (true, "8a4e7dc462bcebe0299b77287fd41fb24d43df4178643e6b4ddb371c38b64af4"), looks := true }, kinds := [], alts := [], laidByText := true, laidKinds := [.data, .data, .data, .sentinel, .sentinel, .data], laidTests := true, laidLooks := .later }
def RefTellsCardSaid : Prop := Claim7.holds Tryd.pinned (.plain (OpenSpec.ofChange refTellsSpec)) refTellsCard

/-- THE TIED CARD OF 'flaillaw07.RefPlain'. -/
def refPlainCard : Claim7 := { stood := { row := refPlainRow, standIns := [], harness := (true, "8a4e7dc462bcebe0299b77287fd41fb24d43df4178643e6b4ddb371c38b64af4"), looks := true }, kinds := [], alts := [], laidByText := true, laidKinds := [.data, .data, .data, .sentinel, .sentinel, .data], laidTests := true, laidLooks := .later }
def RefPlainCardSaid : Prop := Claim7.holds Tryd.pinned (.plain (OpenSpec.ofChange refPlainSpec)) refPlainCard

/-- THE TIED CARD OF 'flaillaw07.RefNames'. -/
def refNamesCard : Claim7 := { stood := { row := refNamesRow, standIns := [], harness := (true, "8a4e7dc462bcebe0299b77287fd41fb24d43df4178643e6b4ddb371c38b64af4"), looks := true }, kinds := [], alts := [], laidByText := true, laidKinds := [.data, .data, .data, .sentinel, .sentinel, .data], laidTests := true, laidLooks := .later }
def RefNamesCardSaid : Prop := Claim7.holds Tryd.pinned (.plain (OpenSpec.ofChange refNamesSpec)) refNamesCard

/-- THE TIED CARD OF 'flaillaw07.RefJoins'. -/
def refJoinsCard : Claim7 := { stood := { row := refJoinsRow, standIns := [], harness := (true, "8a4e7dc462bcebe0299b77287fd41fb24d43df4178643e6b4ddb371c38b64af4"), looks := true }, kinds := [], alts := [], laidByText := true, laidKinds := [.data, .data, .data, .sentinel, .sentinel, .data], laidTests := true, laidLooks := .later }
def RefJoinsCardSaid : Prop := Claim7.holds Tryd.pinned (.plain (OpenSpec.ofChange refJoinsSpec)) refJoinsCard

/-- THE TIED CARD OF 'flaillaw07.RefOne'. -/
def refOneCard : Claim7 := { stood := { row := refOneRow, standIns := [], harness := (true, "8a4e7dc462bcebe0299b77287fd41fb24d43df4178643e6b4ddb371c38b64af4"), looks := true }, kinds := [], alts := [], laidByText := true, laidKinds := [.data, .data, .data, .sentinel, .sentinel, .data], laidTests := true, laidLooks := .later }
def RefOneCardSaid : Prop := Claim7.holds Tryd.pinned (.plain (OpenSpec.ofChange refOneSpec)) refOneCard

/-- THE TIED CARD OF 'flaillaw07.RefNumbers'. -/
def refNumbersCard : Claim7 := { stood := { row := refNumbersRow, standIns := [], harness := (true, "8a4e7dc462bcebe0299b77287fd41fb24d43df4178643e6b4ddb371c38b64af4"), looks := true }, kinds := [], alts := [], laidByText := true, laidKinds := [.data, .data, .data, .sentinel, .sentinel, .data], laidTests := true, laidLooks := .later }
def RefNumbersCardSaid : Prop := Claim7.holds Tryd.pinned (.plain (OpenSpec.ofChange refNumbersSpec)) refNumbersCard

/-- THE SECOND FORM's CARD OF 'flaillaw07.RefTells'. -/
def refTellsUptoCard : Claim7 := { stood := { row := refTellsUptoRow, standIns := [], harness := (true, "8a4e7dc462bcebe0299b77287fd41fb24d43df4178643e6b4ddb371c38b64af4"), looks := true }, kinds := [], alts := [], laidByText := true, laidKinds := [.data, .data, .data, .sentinel, .sentinel, .data], laidTests := true, laidLooks := .later }
def RefTellsUptoCardSaid : Prop := Claim7.holds Tryd.pinned (.plain (OpenSpec.upto refTellsSpec)) refTellsUptoCard

/-- THE SECOND FORM's CARD OF 'flaillaw07.RefPlain'. -/
def refPlainUptoCard : Claim7 := { stood := { row := refPlainUptoRow, standIns := [], harness := (true, "8a4e7dc462bcebe0299b77287fd41fb24d43df4178643e6b4ddb371c38b64af4"), looks := true }, kinds := [], alts := [], laidByText := true, laidKinds := [.data, .data, .data, .sentinel, .sentinel, .data], laidTests := true, laidLooks := .later }
def RefPlainUptoCardSaid : Prop := Claim7.holds Tryd.pinned (.plain (OpenSpec.upto refPlainSpec)) refPlainUptoCard

/-- THE SECOND FORM's CARD OF 'flaillaw07.RefNames'. -/
def refNamesUptoCard : Claim7 := { stood := { row := refNamesUptoRow, standIns := [], harness := (true, "8a4e7dc462bcebe0299b77287fd41fb24d43df4178643e6b4ddb371c38b64af4"), looks := true }, kinds := [], alts := [], laidByText := true, laidKinds := [.data, .data, .data, .sentinel, .sentinel, .data], laidTests := true, laidLooks := .later }
def RefNamesUptoCardSaid : Prop := Claim7.holds Tryd.pinned (.plain (OpenSpec.upto refNamesSpec)) refNamesUptoCard

/-- THE SECOND FORM's CARD OF 'flaillaw07.RefJoins'. -/
def refJoinsUptoCard : Claim7 := { stood := { row := refJoinsUptoRow, standIns := [], harness := (true, "8a4e7dc462bcebe0299b77287fd41fb24d43df4178643e6b4ddb371c38b64af4"), looks := true }, kinds := [], alts := [], laidByText := true, laidKinds := [.data, .data, .data, .sentinel, .sentinel, .data], laidTests := true, laidLooks := .later }
def RefJoinsUptoCardSaid : Prop := Claim7.holds Tryd.pinned (.plain (OpenSpec.upto refJoinsSpec)) refJoinsUptoCard

/-- THE SECOND FORM's CARD OF 'flaillaw07.RefOne'. -/
def refOneUptoCard : Claim7 := { stood := { row := refOneUptoRow, standIns := [], harness := (true, "8a4e7dc462bcebe0299b77287fd41fb24d43df4178643e6b4ddb371c38b64af4"), looks := true }, kinds := [], alts := [], laidByText := true, laidKinds := [.data, .data, .data, .sentinel, .sentinel, .data], laidTests := true, laidLooks := .later }
def RefOneUptoCardSaid : Prop := Claim7.holds Tryd.pinned (.plain (OpenSpec.upto refOneSpec)) refOneUptoCard

/-- THE SECOND FORM's CARD OF 'flaillaw07.RefNumbers'. -/
def refNumbersUptoCard : Claim7 := { stood := { row := refNumbersUptoRow, standIns := [], harness := (true, "8a4e7dc462bcebe0299b77287fd41fb24d43df4178643e6b4ddb371c38b64af4"), looks := true }, kinds := [], alts := [], laidByText := true, laidKinds := [.data, .data, .data, .sentinel, .sentinel, .data], laidTests := true, laidLooks := .later }
def RefNumbersUptoCardSaid : Prop := Claim7.holds Tryd.pinned (.plain (OpenSpec.upto refNumbersSpec)) refNumbersUptoCard
end Rows
end Go.Proofs.YtdpgdcbclgdjaaaDoor
