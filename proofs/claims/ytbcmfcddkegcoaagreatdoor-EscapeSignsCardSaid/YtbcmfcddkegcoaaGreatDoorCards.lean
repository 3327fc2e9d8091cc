/-
  DERIVED. GIVEN WITH THE SEED: THE CARDS: each row of YtbcmfcddkegcoaaGreatDoorRows.lean that lists a variable, with what it lists TIED to the program's text (the seventh form; the later family's looks); each row that meets fmt, with fmt's text TOLD by the authors' own Lean function (tested against real Go, not proved from fmt's source: count such statements apart). THE CARD IS WHAT COUNTS. Prove the row's statement (the work); the ties are given (YtbcmfcddkegcoaaGreatDoorTie.lean); close each card by the builder's one call (the guide's Derived/Test/ToyasCard.lean, 'card_holds'). Laid BY PROGRAM, IN A SANDBOX (cutbox-door.mjs). By AI agents, Wed Nov 11 2026. No macro, syntax, notation, axiom, sorry.
-/
import Derived.Test.YtbcmfcddkegcoaaGreatDoorRows
import GoSem.ClaimSeven
namespace Go.Proofs.YtbcmfcddkegcoaaGreatDoor
namespace Rows

/-- THE TIED CARD OF 'flaillaw21.EscapeSigns'. -/
def escapeSignsCard : Claim7 := { stood := { row := escapeSignsRow, standIns := [], harness := (true, "3f4ef5fc7c3fef41df8cac8ad19d26112decad73556f12ee9684a38fd216aa1e"), looks := true }, kinds := [], alts := [], laidByText := true, laidKinds := [.data, .data, .data, .sentinel, .sentinel, .data], laidTests := true, laidLooks := .later }
def EscapeSignsCardSaid : Prop := Claim7.holds Tryz.pinned (.plain (OpenSpec.ofChange escapeSignsSpec)) escapeSignsCard

/-- THE SECOND FORM's CARD OF 'flaillaw21.EscapeSigns'. -/
def escapeSignsUptoCard : Claim7 := { stood := { row := escapeSignsUptoRow, standIns := [], harness := (true, "3f4ef5fc7c3fef41df8cac8ad19d26112decad73556f12ee9684a38fd216aa1e"), looks := true }, kinds := [], alts := [], laidByText := true, laidKinds := [.data, .data, .data, .sentinel, .sentinel, .data], laidTests := true, laidLooks := .later }
def EscapeSignsUptoCardSaid : Prop := Claim7.holds Tryz.pinned (.plain (OpenSpec.upto escapeSignsSpec)) escapeSignsUptoCard
end Rows
end Go.Proofs.YtbcmfcddkegcoaaGreatDoor
