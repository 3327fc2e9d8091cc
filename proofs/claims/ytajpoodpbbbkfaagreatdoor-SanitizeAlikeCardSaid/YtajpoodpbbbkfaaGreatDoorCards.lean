/-
  DERIVED. GIVEN WITH THE SEED: THE CARDS: each row of YtajpoodpbbbkfaaGreatDoorRows.lean that lists a variable, with what it lists TIED to the program's text (the seventh form; the later family's looks); each row that meets fmt, with fmt's text TOLD by the authors' own Lean function (tested against real Go, not proved from fmt's source: count such statements apart). THE CARD IS WHAT COUNTS. Prove the row's statement (the work); the ties are given (YtajpoodpbbbkfaaGreatDoorTie.lean); close each card by the builder's one call (the guide's Derived/Test/ToyasCard.lean, 'card_holds'). Laid BY PROGRAM, IN A SANDBOX (cutbox-door.mjs). By AI agents, Wed Nov 11 2026. No macro, syntax, notation, axiom, sorry.
-/
import Derived.Test.YtajpoodpbbbkfaaGreatDoorRows
import GoSem.ClaimSeven
namespace Go.Proofs.YtajpoodpbbbkfaaGreatDoor
namespace Rows

/-- THE TIED CARD OF 'flaillaw22.SanitizeTells'. -/
def sanitizeTellsCard : Claim7 := { stood := { row := sanitizeTellsRow, standIns := [], harness := (true, "e65632227296b4f1f67aada4a7735b9febd2961890b37b7a91d994754200a34a"), looks := true }, kinds := [], alts := [], laidByText := true, laidKinds := [.data, .data, .data, .sentinel, .sentinel, .data], laidTests := true, laidLooks := .later }
def SanitizeTellsCardSaid : Prop := Claim7.holds Tryz.pinned (.plain (OpenSpec.ofChange sanitizeTellsSpec)) sanitizeTellsCard

/-- THE TIED CARD OF 'flaillaw22.SanitizePlain'. -/
def sanitizePlainCard : Claim7 := { stood := { row := sanitizePlainRow, standIns := [], harness := (true, "e65632227296b4f1f67aada4a7735b9febd2961890b37b7a91d994754200a34a"), looks := true }, kinds := [], alts := [], laidByText := true, laidKinds := [.data, .data, .data, .sentinel, .sentinel, .data], laidTests := true, laidLooks := .later }
def SanitizePlainCardSaid : Prop := Claim7.holds Tryz.pinned (.plain (OpenSpec.ofChange sanitizePlainSpec)) sanitizePlainCard

/-- THE TIED CARD OF 'flaillaw22.SanitizeText'. -/
def sanitizeTextCard : Claim7 := { stood := { row := sanitizeTextRow, standIns := [], harness := (true, "e65632227296b4f1f67aada4a7735b9febd2961890b37b7a91d994754200a34a"), looks := true }, kinds := [], alts := [], laidByText := true, laidKinds := [.data, .data, .data, .sentinel, .sentinel, .data], laidTests := true, laidLooks := .later }
def SanitizeTextCardSaid : Prop := Claim7.holds Tryz.pinned (.plain (OpenSpec.ofChange sanitizeTextSpec)) sanitizeTextCard

/-- THE TIED CARD OF 'flaillaw22.SanitizeWords'. -/
def sanitizeWordsCard : Claim7 := { stood := { row := sanitizeWordsRow, standIns := [], harness := (true, "e65632227296b4f1f67aada4a7735b9febd2961890b37b7a91d994754200a34a"), looks := true }, kinds := [], alts := [], laidByText := true, laidKinds := [.data, .data, .data, .sentinel, .sentinel, .data], laidTests := true, laidLooks := .later }
def SanitizeWordsCardSaid : Prop := Claim7.holds Tryz.pinned (.plain (OpenSpec.ofChange sanitizeWordsSpec)) sanitizeWordsCard

/-- THE TIED CARD OF 'flaillaw22.SanitizeAlike'. -/
def sanitizeAlikeCard : Claim7 := { stood := { row := sanitizeAlikeRow, standIns := [], harness := (true, "e65632227296b4f1f67aada4a7735b9febd2961890b37b7a91d994754200a34a"), looks := true }, kinds := [], alts := [], laidByText := true, laidKinds := [.data, .data, .data, .sentinel, .sentinel, .data], laidTests := true, laidLooks := .later }
def SanitizeAlikeCardSaid : Prop := Claim7.holds Tryz.pinned (.plain (OpenSpec.ofChange sanitizeAlikeSpec)) sanitizeAlikeCard

/-- THE SECOND FORM's CARD OF 'flaillaw22.SanitizeTells'. -/
def sanitizeTellsUptoCard : Claim7 := { stood := { row := sanitizeTellsUptoRow, standIns := [], harness := (true, "e65632227296b4f1f67aada4a7735b9febd2961890b37b7a91d994754200a34a"), looks := true }, kinds := [], alts := [], laidByText := true, laidKinds := [.data, .data, .data, .sentinel, .sentinel, .data], laidTests := true, laidLooks := .later }
def SanitizeTellsUptoCardSaid : Prop := Claim7.holds Tryz.pinned (.plain (OpenSpec.upto sanitizeTellsSpec)) sanitizeTellsUptoCard

/-- THE SECOND FORM's CARD OF 'flaillaw22.SanitizePlain'. -/
def sanitizePlainUptoCard : Claim7 := { stood := { row := sanitizePlainUptoRow, standIns := [], harness := (true, "e65632227296b4f1f67aada4a7735b9febd2961890b37b7a91d994754200a34a"), looks := true }, kinds := [], alts := [], laidByText := true, laidKinds := [.data, .data, .data, .sentinel, .sentinel, .data], laidTests := true, laidLooks := .later }
def SanitizePlainUptoCardSaid : Prop := Claim7.holds Tryz.pinned (.plain (OpenSpec.upto sanitizePlainSpec)) sanitizePlainUptoCard

/-- THE SECOND FORM's CARD OF 'flaillaw22.SanitizeText'. -/
def sanitizeTextUptoCard : Claim7 := { stood := { row := sanitizeTextUptoRow, standIns := [], harness := (true, "e65632227296b4f1f67aada4a7735b9febd2961890b37b7a91d994754200a34a"), looks := true }, kinds := [], alts := [], laidByText := true, laidKinds := [.data, .data, .data, .sentinel, .sentinel, .data], laidTests := true, laidLooks := .later }
def SanitizeTextUptoCardSaid : Prop := Claim7.holds Tryz.pinned (.plain (OpenSpec.upto sanitizeTextSpec)) sanitizeTextUptoCard

/-- THE SECOND FORM's CARD OF 'flaillaw22.SanitizeWords'. -/
def sanitizeWordsUptoCard : Claim7 := { stood := { row := sanitizeWordsUptoRow, standIns := [], harness := (true, "e65632227296b4f1f67aada4a7735b9febd2961890b37b7a91d994754200a34a"), looks := true }, kinds := [], alts := [], laidByText := true, laidKinds := [.data, .data, .data, .sentinel, .sentinel, .data], laidTests := true, laidLooks := .later }
def SanitizeWordsUptoCardSaid : Prop := Claim7.holds Tryz.pinned (.plain (OpenSpec.upto sanitizeWordsSpec)) sanitizeWordsUptoCard

/-- THE SECOND FORM's CARD OF 'flaillaw22.SanitizeAlike'. -/
def sanitizeAlikeUptoCard : Claim7 := { stood := { row := sanitizeAlikeUptoRow, standIns := [], harness := (true, "e65632227296b4f1f67aada4a7735b9febd2961890b37b7a91d994754200a34a"), looks := true }, kinds := [], alts := [], laidByText := true, laidKinds := [.data, .data, .data, .sentinel, .sentinel, .data], laidTests := true, laidLooks := .later }
def SanitizeAlikeUptoCardSaid : Prop := Claim7.holds Tryz.pinned (.plain (OpenSpec.upto sanitizeAlikeSpec)) sanitizeAlikeUptoCard
end Rows
end Go.Proofs.YtajpoodpbbbkfaaGreatDoor
