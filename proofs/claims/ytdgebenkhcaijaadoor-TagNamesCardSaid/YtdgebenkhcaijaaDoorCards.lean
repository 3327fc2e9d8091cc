/-
  DERIVED. GIVEN WITH THE SEED: THE CARDS: each row of YtdgebenkhcaijaaDoorRows.lean that lists a variable, with what it lists TIED to the program's text (the seventh form; the later family's looks); each row that meets fmt, with fmt's text TOLD by the authors' own Lean function (tested against real Go, not proved from fmt's source: count such statements apart). THE CARD IS WHAT COUNTS. Prove the row's statement (the work); the ties are given (YtdgebenkhcaijaaDoorTie.lean); close each card by the builder's one call (the guide's Derived/Test/ToyasCard.lean, 'card_holds'). Laid BY PROGRAM, IN A SANDBOX (cutbox-door.mjs). By AI agents, Wed Nov 11 2026. No macro, syntax, notation, axiom, sorry.
-/
import Derived.Test.YtdgebenkhcaijaaDoorRows
import GoSem.ClaimSeven
namespace Go.Proofs.YtdgebenkhcaijaaDoor
namespace Rows

/-- THE TIED CARD OF 'flaillaw09.TagNames'. -/
def tagNamesCard : Claim7 := { stood := { row := tagNamesRow, standIns := [], harness := (true, "a51fdaacbe61f820cf99aaed2282933b6c4053d838796a17abf3c5ac3501721a"), looks := true }, kinds := [], alts := [], laidByText := true, laidKinds := [.data, .data, .data, .sentinel, .sentinel, .data], laidTests := true, laidLooks := .later }
def TagNamesCardSaid : Prop := Claim7.holds Tryd.pinned (.plain (OpenSpec.ofChange tagNamesSpec)) tagNamesCard

/-- THE TIED CARD OF 'flaillaw09.TagWritten'. -/
def tagWrittenCard : Claim7 := { stood := { row := tagWrittenRow, standIns := [], harness := (true, "a51fdaacbe61f820cf99aaed2282933b6c4053d838796a17abf3c5ac3501721a"), looks := true }, kinds := [], alts := [], laidByText := true, laidKinds := [.data, .data, .data, .sentinel, .sentinel, .data], laidTests := true, laidLooks := .later }
def TagWrittenCardSaid : Prop := Claim7.holds Tryd.pinned (.plain (OpenSpec.ofChange tagWrittenSpec)) tagWrittenCard

/-- THE TIED CARD OF 'flaillaw09.TagRest'. -/
def tagRestCard : Claim7 := { stood := { row := tagRestRow, standIns := [], harness := (true, "a51fdaacbe61f820cf99aaed2282933b6c4053d838796a17abf3c5ac3501721a"), looks := true }, kinds := [], alts := [], laidByText := true, laidKinds := [.data, .data, .data, .sentinel, .sentinel, .data], laidTests := true, laidLooks := .later }
def TagRestCardSaid : Prop := Claim7.holds Tryd.pinned (.plain (OpenSpec.ofChange tagRestSpec)) tagRestCard

/-- THE TIED CARD OF 'flaillaw09.TagCase'. -/
def tagCaseCard : Claim7 := { stood := { row := tagCaseRow, standIns := [], harness := (true, "a51fdaacbe61f820cf99aaed2282933b6c4053d838796a17abf3c5ac3501721a"), looks := true }, kinds := [], alts := [], laidByText := true, laidKinds := [.data, .data, .data, .sentinel, .sentinel, .data], laidTests := true, laidLooks := .later }
def TagCaseCardSaid : Prop := Claim7.holds Tryd.pinned (.plain (OpenSpec.ofChange tagCaseSpec)) tagCaseCard

/-- THE SECOND FORM's CARD OF 'flaillaw09.TagNames'. -/
def tagNamesUptoCard : Claim7 := { stood := { row := tagNamesUptoRow, standIns := [], harness := (true, "a51fdaacbe61f820cf99aaed2282933b6c4053d838796a17abf3c5ac3501721a"), looks := true }, kinds := [], alts := [], laidByText := true, laidKinds := [.data, .data, .data, .sentinel, .sentinel, .data], laidTests := true, laidLooks := .later }
def TagNamesUptoCardSaid : Prop := Claim7.holds Tryd.pinned (.plain (OpenSpec.upto tagNamesSpec)) tagNamesUptoCard

/-- THE SECOND FORM's CARD OF 'flaillaw09.TagWritten'. -/
def tagWrittenUptoCard : Claim7 := { stood := { row := tagWrittenUptoRow, standIns := [], harness := (true, "a51fdaacbe61f820cf99aaed2282933b6c4053d838796a17abf3c5ac3501721a"), looks := true }, kinds := [], alts := [], laidByText := true, laidKinds := [.data, .data, .data, .sentinel, .sentinel, .data], laidTests := true, laidLooks := .later }
def TagWrittenUptoCardSaid : Prop := Claim7.holds Tryd.pinned (.plain (OpenSpec.upto tagWrittenSpec)) tagWrittenUptoCard

/-- THE SECOND FORM's CARD OF 'flaillaw09.TagRest'. -/
def tagRestUptoCard : Claim7 := { stood := { row := tagRestUptoRow, standIns := [], harness := (true, "a51fdaacbe61f820cf99aaed2282933b6c4053d838796a17abf3c5ac3501721a"), looks := true }, kinds := [], alts := [], laidByText := true, laidKinds := [.data, .data, .data, .sentinel, .sentinel, .data], laidTests := true, laidLooks := .later }
def TagRestUptoCardSaid : Prop := Claim7.holds Tryd.pinned (.plain (OpenSpec.upto tagRestSpec)) tagRestUptoCard

/-- THE SECOND FORM's CARD OF 'flaillaw09.TagCase'. -/
def tagCaseUptoCard : Claim7 := { stood := { row := tagCaseUptoRow, standIns := [], harness := (true, "a51fdaacbe61f820cf99aaed2282933b6c4053d838796a17abf3c5ac3501721a"), looks := true }, kinds := [], alts := [], laidByText := true, laidKinds := [.data, .data, .data, .sentinel, .sentinel, .data], laidTests := true, laidLooks := .later }
def TagCaseUptoCardSaid : Prop := Claim7.holds Tryd.pinned (.plain (OpenSpec.upto tagCaseSpec)) tagCaseUptoCard
end Rows
end Go.Proofs.YtdgebenkhcaijaaDoor
