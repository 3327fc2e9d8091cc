/-
  DERIVED. GIVEN WITH THE SEED: THE CARDS: each row of YtbcmfcddkegcoaaDoorRows.lean that lists a variable, with what it lists TIED to the program's text (the seventh form; the later family's looks); each row that meets fmt, with fmt's text TOLD by the authors' own Lean function (tested against real Go, not proved from fmt's source: count such statements apart). THE CARD IS WHAT COUNTS. Prove the row's statement (the work); the ties are given (YtbcmfcddkegcoaaDoorTie.lean); close each card by the builder's one call (the guide's Derived/Test/ToyasCard.lean, 'card_holds'). Laid BY PROGRAM, IN A SANDBOX (cutbox-door.mjs). By AI agents, Wed Nov 11 2026. No macro, syntax, notation, axiom, sorry.
-/
import Derived.Test.YtbcmfcddkegcoaaDoorRows
import GoSem.ClaimSeven
namespace Go.Proofs.YtbcmfcddkegcoaaDoor
namespace Rows

/-- THE TIED CARD OF 'flaillaw21.EscapeBack'. -/
def escapeBackCard : Claim7 := { stood := { row := escapeBackRow, standIns := [], harness := (true, "f38d7e6229add8310a81ce7bedac91773c0fc404c6d038d686d0190760ef627b"), looks := true }, kinds := [], alts := [], laidByText := true, laidKinds := [.data, .data, .data, .sentinel, .sentinel, .data], laidTests := true, laidLooks := .later }
def EscapeBackCardSaid : Prop := Claim7.holds Tryd.pinned (.plain (OpenSpec.ofChange escapeBackSpec)) escapeBackCard

/-- THE SECOND FORM's CARD OF 'flaillaw21.EscapeBack'. -/
def escapeBackUptoCard : Claim7 := { stood := { row := escapeBackUptoRow, standIns := [], harness := (true, "f38d7e6229add8310a81ce7bedac91773c0fc404c6d038d686d0190760ef627b"), looks := true }, kinds := [], alts := [], laidByText := true, laidKinds := [.data, .data, .data, .sentinel, .sentinel, .data], laidTests := true, laidLooks := .later }
def EscapeBackUptoCardSaid : Prop := Claim7.holds Tryd.pinned (.plain (OpenSpec.upto escapeBackSpec)) escapeBackUptoCard
end Rows
end Go.Proofs.YtbcmfcddkegcoaaDoor
