/-
  DERIVED. GIVEN WITH THE SEED: THE CARDS: each row of YtpmdcppnlggckaaGreatDoorRows.lean that lists a variable, with what it lists TIED to the program's text (the seventh form; the later family's looks); each row that meets fmt, with fmt's text TOLD by the authors' own Lean function (tested against real Go, not proved from fmt's source: count such statements apart). THE CARD IS WHAT COUNTS. Prove the row's statement (the work); the ties are given (YtpmdcppnlggckaaGreatDoorTie.lean); close each card by the builder's one call (the guide's Derived/Test/ToyasCard.lean, 'card_holds'). Laid BY PROGRAM, IN A SANDBOX (cutbox-door.mjs). By AI agents, Wed Nov 11 2026. No macro, syntax, notation, axiom, sorry.
-/
import Derived.Test.YtpmdcppnlggckaaGreatDoorRows
import GoSem.ClaimSeven
namespace Go.Proofs.YtpmdcppnlggckaaGreatDoor
namespace Rows

/-- THE TIED CARD OF 'flaillaw20.ExtractTells'. -/
def extractTellsCard : Claim7 := { stood := { row := extractTellsRow, standIns := [], harness := (true, "74102ea951df36a43f38f01901347dc63e0678e451175946ee06f7298300a46f"), looks := true }, kinds := [], alts := [], laidByText := true, laidKinds := [.data, .data, .data, .sentinel, .sentinel, .data], laidTests := true, laidLooks := .later }
def ExtractTellsCardSaid : Prop := Claim7.holds Tryz.pinned (.plain (OpenSpec.ofChange extractTellsSpec)) extractTellsCard

/-- THE TIED CARD OF 'flaillaw20.ExtractClean'. -/
def extractCleanCard : Claim7 := { stood := { row := extractCleanRow, standIns := [], harness := (true, "74102ea951df36a43f38f01901347dc63e0678e451175946ee06f7298300a46f"), looks := true }, kinds := [], alts := [], laidByText := true, laidKinds := [.data, .data, .data, .sentinel, .sentinel, .data], laidTests := true, laidLooks := .later }
def ExtractCleanCardSaid : Prop := Claim7.holds Tryz.pinned (.plain (OpenSpec.ofChange extractCleanSpec)) extractCleanCard

/-- THE TIED CARD OF 'flaillaw20.ExtractPlain'. -/
def extractPlainCard : Claim7 := { stood := { row := extractPlainRow, standIns := [], harness := (true, "74102ea951df36a43f38f01901347dc63e0678e451175946ee06f7298300a46f"), looks := true }, kinds := [], alts := [], laidByText := true, laidKinds := [.data, .data, .data, .sentinel, .sentinel, .data], laidTests := true, laidLooks := .later }
def ExtractPlainCardSaid : Prop := Claim7.holds Tryz.pinned (.plain (OpenSpec.ofChange extractPlainSpec)) extractPlainCard

/-- THE TIED CARD OF 'flaillaw20.ExtractTags'. -/
def extractTagsCard : Claim7 := { stood := { row := extractTagsRow, standIns := [], harness := (true, "74102ea951df36a43f38f01901347dc63e0678e451175946ee06f7298300a46f"), looks := true }, kinds := [], alts := [], laidByText := true, laidKinds := [.data, .data, .data, .sentinel, .sentinel, .data], laidTests := true, laidLooks := .later }
def ExtractTagsCardSaid : Prop := Claim7.holds Tryz.pinned (.plain (OpenSpec.ofChange extractTagsSpec)) extractTagsCard

/-- THE TIED CARD OF 'flaillaw20.ExtractBlocks'. -/
def extractBlocksCard : Claim7 := { stood := { row := extractBlocksRow, standIns := [], harness := (true, "74102ea951df36a43f38f01901347dc63e0678e451175946ee06f7298300a46f"), looks := true }, kinds := [], alts := [], laidByText := true, laidKinds := [.data, .data, .data, .sentinel, .sentinel, .data], laidTests := true, laidLooks := .later }
def ExtractBlocksCardSaid : Prop := Claim7.holds Tryz.pinned (.plain (OpenSpec.ofChange extractBlocksSpec)) extractBlocksCard

/-- THE TIED CARD OF 'flaillaw20.ExtractCase'. -/
def extractCaseCard : Claim7 := { stood := { row := extractCaseRow, standIns := [], harness := (true, "74102ea951df36a43f38f01901347dc63e0678e451175946ee06f7298300a46f"), looks := true }, kinds := [], alts := [], laidByText := true, laidKinds := [.data, .data, .data, .sentinel, .sentinel, .data], laidTests := true, laidLooks := .later }
def ExtractCaseCardSaid : Prop := Claim7.holds Tryz.pinned (.plain (OpenSpec.ofChange extractCaseSpec)) extractCaseCard

/-- THE SECOND FORM's CARD OF 'flaillaw20.ExtractTells'. -/
def extractTellsUptoCard : Claim7 := { stood := { row := extractTellsUptoRow, standIns := [], harness := (true, "74102ea951df36a43f38f01901347dc63e0678e451175946ee06f7298300a46f"), looks := true }, kinds := [], alts := [], laidByText := true, laidKinds := [.data, .data, .data, .sentinel, .sentinel, .data], laidTests := true, laidLooks := .later }
def ExtractTellsUptoCardSaid : Prop := Claim7.holds Tryz.pinned (.plain (OpenSpec.upto extractTellsSpec)) extractTellsUptoCard

/-- THE SECOND FORM's CARD OF 'flaillaw20.ExtractClean'. -/
def extractCleanUptoCard : Claim7 := { stood := { row := extractCleanUptoRow, standIns := [], harness := (true, "74102ea951df36a43f38f01901347dc63e0678e451175946ee06f7298300a46f"), looks := true }, kinds := [], alts := [], laidByText := true, laidKinds := [.data, .data, .data, .sentinel, .sentinel, .data], laidTests := true, laidLooks := .later }
def ExtractCleanUptoCardSaid : Prop := Claim7.holds Tryz.pinned (.plain (OpenSpec.upto extractCleanSpec)) extractCleanUptoCard

/-- THE SECOND FORM's CARD OF 'flaillaw20.ExtractPlain'. -/
def extractPlainUptoCard : Claim7 := { stood := { row := extractPlainUptoRow, standIns := [], harness := (true, "74102ea951df36a43f38f01901347dc63e0678e451175946ee06f7298300a46f"), looks := true }, kinds := [], alts := [], laidByText := true, laidKinds := [.data, .data, .data, .sentinel, .sentinel, .data], laidTests := true, laidLooks := .later }
def ExtractPlainUptoCardSaid : Prop := Claim7.holds Tryz.pinned (.plain (OpenSpec.upto extractPlainSpec)) extractPlainUptoCard

/-- THE SECOND FORM's CARD OF 'flaillaw20.ExtractTags'. -/
def extractTagsUptoCard : Claim7 := { stood := { row := extractTagsUptoRow, standIns := [], harness := (true, "74102ea951df36a43f38f01901347dc63e0678e451175946ee06f7298300a46f"), looks := true }, kinds := [], alts := [], laidByText := true, laidKinds := [.data, .data, .data, .sentinel, .sentinel, .data], laidTests := true, laidLooks := .later }
def ExtractTagsUptoCardSaid : Prop := Claim7.holds Tryz.pinned (.plain (OpenSpec.upto extractTagsSpec)) extractTagsUptoCard

/-- THE SECOND FORM's CARD OF 'flaillaw20.ExtractBlocks'. -/
def extractBlocksUptoCard : Claim7 := { stood := { row := extractBlocksUptoRow, standIns := [], harness := (true, "74102ea951df36a43f38f01901347dc63e0678e451175946ee06f7298300a46f"), looks := true }, kinds := [], alts := [], laidByText := true, laidKinds := [.data, .data, .data, .sentinel, .sentinel, .data], laidTests := true, laidLooks := .later }
def ExtractBlocksUptoCardSaid : Prop := Claim7.holds Tryz.pinned (.plain (OpenSpec.upto extractBlocksSpec)) extractBlocksUptoCard

/-- THE SECOND FORM's CARD OF 'flaillaw20.ExtractCase'. -/
def extractCaseUptoCard : Claim7 := { stood := { row := extractCaseUptoRow, standIns := [], harness := (true, "74102ea951df36a43f38f01901347dc63e0678e451175946ee06f7298300a46f"), looks := true }, kinds := [], alts := [], laidByText := true, laidKinds := [.data, .data, .data, .sentinel, .sentinel, .data], laidTests := true, laidLooks := .later }
def ExtractCaseUptoCardSaid : Prop := Claim7.holds Tryz.pinned (.plain (OpenSpec.upto extractCaseSpec)) extractCaseUptoCard
end Rows
end Go.Proofs.YtpmdcppnlggckaaGreatDoor
