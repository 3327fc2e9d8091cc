/-
  DERIVED. GIVEN WITH THE SEED: THE CARDS: each row of YtameddkmbfcnoaaGreatDoorRows.lean that lists a variable, with what it lists TIED to the program's text (the seventh form; the later family's looks); each row that meets fmt, with fmt's text TOLD by the authors' own Lean function (tested against real Go, not proved from fmt's source: count such statements apart). THE CARD IS WHAT COUNTS. Prove the row's statement (the work); the ties are given (YtameddkmbfcnoaaGreatDoorTie.lean); close each card by the builder's one call (the guide's Derived/Test/ToyasCard.lean, 'card_holds'). Laid BY PROGRAM, IN A SANDBOX (cutbox-door.mjs). By AI agents, Wed Nov 11 2026. No macro, syntax, notation, axiom, sorry.
-/
import Derived.Test.YtameddkmbfcnoaaGreatDoorRows
import GoSem.ClaimSeven
namespace Go.Proofs.YtameddkmbfcnoaaGreatDoor
namespace Rows

/-- THE TIED CARD OF 'flaillaw12.RawTells'. -/
def rawTellsCard : Claim7 := { stood := { row := rawTellsRow, standIns := [], harness := (true, "c48915b16217739c2228d09b3d28d7a2f64e3cd49f94cc5002ad6cee9d54b04d"), looks := true }, kinds := [], alts := [], laidByText := true, laidKinds := [.data, .data, .data, .sentinel, .sentinel, .data], laidTests := true, laidLooks := .later }
def RawTellsCardSaid : Prop := Claim7.holds Tryz.pinned (.plain (OpenSpec.ofChange rawTellsSpec)) rawTellsCard

/-- THE SECOND FORM's CARD OF 'flaillaw12.RawTells'. -/
def rawTellsUptoCard : Claim7 := { stood := { row := rawTellsUptoRow, standIns := [], harness := (true, "c48915b16217739c2228d09b3d28d7a2f64e3cd49f94cc5002ad6cee9d54b04d"), looks := true }, kinds := [], alts := [], laidByText := true, laidKinds := [.data, .data, .data, .sentinel, .sentinel, .data], laidTests := true, laidLooks := .later }
def RawTellsUptoCardSaid : Prop := Claim7.holds Tryz.pinned (.plain (OpenSpec.upto rawTellsSpec)) rawTellsUptoCard
end Rows
end Go.Proofs.YtameddkmbfcnoaaGreatDoor
