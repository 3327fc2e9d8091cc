/-
  DERIVED. GIVEN WITH THE SEED: THE CARDS: each row of YtcamkphanakkdaaDoorRows.lean that lists a variable, with what it lists TIED to the program's text (the seventh form; the later family's looks); each row that meets fmt, with fmt's text TOLD by the authors' own Lean function (tested against real Go, not proved from fmt's source: count such statements apart). THE CARD IS WHAT COUNTS. Prove the row's statement (the work); the ties are given (YtcamkphanakkdaaDoorTie.lean); close each card by the builder's one call (the guide's Derived/Test/ToyasCard.lean, 'card_holds'). Laid BY PROGRAM, IN A SANDBOX (cutbox-door.mjs). By AI agents, Wed Nov 11 2026. No macro, syntax, notation, axiom, sorry.
-/
import Derived.Test.YtcamkphanakkdaaDoorRows
import GoSem.ClaimSeven
namespace Go.Proofs.YtcamkphanakkdaaDoor
namespace Rows

/-- THE TIED CARD OF 'flaillaw14.TextPlain'. -/
def textPlainCard : Claim7 := { stood := { row := textPlainRow, standIns := [], harness := (true, "4a654bcaae8c3e76ca3d0e1642fe003da2d1db64a6712858eb56f415bc32de5e"), looks := true }, kinds := [], alts := [], laidByText := true, laidKinds := [.data, .data, .data, .sentinel, .sentinel, .data], laidTests := true, laidLooks := .later }
def TextPlainCardSaid : Prop := Claim7.holds Tryd.pinned (.plain (OpenSpec.ofChange textPlainSpec)) textPlainCard

/-- THE TIED CARD OF 'flaillaw14.TextNext'. -/
def textNextCard : Claim7 := { stood := { row := textNextRow, standIns := [], harness := (true, "4a654bcaae8c3e76ca3d0e1642fe003da2d1db64a6712858eb56f415bc32de5e"), looks := true }, kinds := [], alts := [], laidByText := true, laidKinds := [.data, .data, .data, .sentinel, .sentinel, .data], laidTests := true, laidLooks := .later }
def TextNextCardSaid : Prop := Claim7.holds Tryd.pinned (.plain (OpenSpec.ofChange textNextSpec)) textNextCard

/-- THE TIED CARD OF 'flaillaw14.TextJoins'. -/
def textJoinsCard : Claim7 := { stood := { row := textJoinsRow, standIns := [], harness := (true, "4a654bcaae8c3e76ca3d0e1642fe003da2d1db64a6712858eb56f415bc32de5e"), looks := true }, kinds := [], alts := [], laidByText := true, laidKinds := [.data, .data, .data, .sentinel, .sentinel, .data], laidTests := true, laidLooks := .later }
def TextJoinsCardSaid : Prop := Claim7.holds Tryd.pinned (.plain (OpenSpec.ofChange textJoinsSpec)) textJoinsCard

/-- THE TIED CARD OF 'flaillaw14.TextKinds'. -/
def textKindsCard : Claim7 := { stood := { row := textKindsRow, standIns := [], harness := (true, "4a654bcaae8c3e76ca3d0e1642fe003da2d1db64a6712858eb56f415bc32de5e"), looks := true }, kinds := [], alts := [], laidByText := true, laidKinds := [.data, .data, .data, .sentinel, .sentinel, .data], laidTests := true, laidLooks := .later }
def TextKindsCardSaid : Prop := Claim7.holds Tryd.pinned (.plain (OpenSpec.ofChange textKindsSpec)) textKindsCard

/-- THE SECOND FORM's CARD OF 'flaillaw14.TextPlain'. -/
def textPlainUptoCard : Claim7 := { stood := { row := textPlainUptoRow, standIns := [], harness := (true, "4a654bcaae8c3e76ca3d0e1642fe003da2d1db64a6712858eb56f415bc32de5e"), looks := true }, kinds := [], alts := [], laidByText := true, laidKinds := [.data, .data, .data, .sentinel, .sentinel, .data], laidTests := true, laidLooks := .later }
def TextPlainUptoCardSaid : Prop := Claim7.holds Tryd.pinned (.plain (OpenSpec.upto textPlainSpec)) textPlainUptoCard

/-- THE SECOND FORM's CARD OF 'flaillaw14.TextNext'. -/
def textNextUptoCard : Claim7 := { stood := { row := textNextUptoRow, standIns := [], harness := (true, "4a654bcaae8c3e76ca3d0e1642fe003da2d1db64a6712858eb56f415bc32de5e"), looks := true }, kinds := [], alts := [], laidByText := true, laidKinds := [.data, .data, .data, .sentinel, .sentinel, .data], laidTests := true, laidLooks := .later }
def TextNextUptoCardSaid : Prop := Claim7.holds Tryd.pinned (.plain (OpenSpec.upto textNextSpec)) textNextUptoCard

/-- THE SECOND FORM's CARD OF 'flaillaw14.TextJoins'. -/
def textJoinsUptoCard : Claim7 := { stood := { row := textJoinsUptoRow, standIns := [], harness := (true, "4a654bcaae8c3e76ca3d0e1642fe003da2d1db64a6712858eb56f415bc32de5e"), looks := true }, kinds := [], alts := [], laidByText := true, laidKinds := [.data, .data, .data, .sentinel, .sentinel, .data], laidTests := true, laidLooks := .later }
def TextJoinsUptoCardSaid : Prop := Claim7.holds Tryd.pinned (.plain (OpenSpec.upto textJoinsSpec)) textJoinsUptoCard

/-- THE SECOND FORM's CARD OF 'flaillaw14.TextKinds'. -/
def textKindsUptoCard : Claim7 := { stood := { row := textKindsUptoRow, standIns := [], harness := (true, "4a654bcaae8c3e76ca3d0e1642fe003da2d1db64a6712858eb56f415bc32de5e"), looks := true }, kinds := [], alts := [], laidByText := true, laidKinds := [.data, .data, .data, .sentinel, .sentinel, .data], laidTests := true, laidLooks := .later }
def TextKindsUptoCardSaid : Prop := Claim7.holds Tryd.pinned (.plain (OpenSpec.upto textKindsSpec)) textKindsUptoCard
end Rows
end Go.Proofs.YtcamkphanakkdaaDoor
