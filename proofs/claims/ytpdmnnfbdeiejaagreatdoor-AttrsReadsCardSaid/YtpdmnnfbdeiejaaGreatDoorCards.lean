/-
  DERIVED. GIVEN WITH THE SEED: THE CARDS: each row of YtpdmnnfbdeiejaaGreatDoorRows.lean that lists a variable, with what it lists TIED to the program's text (the seventh form; the later family's looks); each row that meets fmt, with fmt's text TOLD by the authors' own Lean function (tested against real Go, not proved from fmt's source: count such statements apart). THE CARD IS WHAT COUNTS. Prove the row's statement (the work); the ties are given (YtpdmnnfbdeiejaaGreatDoorTie.lean); close each card by the builder's one call (the guide's Derived/Test/ToyasCard.lean, 'card_holds'). Laid BY PROGRAM, IN A SANDBOX (cutbox-door.mjs). By AI agents, Wed Nov 11 2026. No macro, syntax, notation, axiom, sorry.
-/
import Derived.Test.YtpdmnnfbdeiejaaGreatDoorRows
import GoSem.ClaimSeven
namespace Go.Proofs.YtpdmnnfbdeiejaaGreatDoor
namespace Rows

/-- THE TIED CARD OF 'flaillaw08.AttrsReads'. -/
def attrsReadsCard : Claim7 := { stood := { row := attrsReadsRow, standIns := [], harness := (true, "de195244d89daf5335c04889324e8b8e4617afe72b85694a1392ba6e6d11c8cc"), looks := true }, kinds := [], alts := [], laidByText := true, laidKinds := [.data, .data, .data, .sentinel, .sentinel, .data], laidTests := true, laidLooks := .later }
def AttrsReadsCardSaid : Prop := Claim7.holds Tryz.pinned (.plain (OpenSpec.ofChange attrsReadsSpec)) attrsReadsCard

/-- THE SECOND FORM's CARD OF 'flaillaw08.AttrsReads'. -/
def attrsReadsUptoCard : Claim7 := { stood := { row := attrsReadsUptoRow, standIns := [], harness := (true, "de195244d89daf5335c04889324e8b8e4617afe72b85694a1392ba6e6d11c8cc"), looks := true }, kinds := [], alts := [], laidByText := true, laidKinds := [.data, .data, .data, .sentinel, .sentinel, .data], laidTests := true, laidLooks := .later }
def AttrsReadsUptoCardSaid : Prop := Claim7.holds Tryz.pinned (.plain (OpenSpec.upto attrsReadsSpec)) attrsReadsUptoCard
end Rows
end Go.Proofs.YtpdmnnfbdeiejaaGreatDoor
