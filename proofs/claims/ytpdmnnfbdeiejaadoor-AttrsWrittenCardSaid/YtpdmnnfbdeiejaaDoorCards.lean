/-
  DERIVED. GIVEN WITH THE SEED: THE CARDS: each row of YtpdmnnfbdeiejaaDoorRows.lean that lists a variable, with what it lists TIED to the program's text (the seventh form; the later family's looks); each row that meets fmt, with fmt's text TOLD by the authors' own Lean function (tested against real Go, not proved from fmt's source: count such statements apart). THE CARD IS WHAT COUNTS. Prove the row's statement (the work); the ties are given (YtpdmnnfbdeiejaaDoorTie.lean); close each card by the builder's one call (the guide's Derived/Test/ToyasCard.lean, 'card_holds'). Laid BY PROGRAM, IN A SANDBOX (cutbox-door.mjs). By AI agents, Wed Nov 11 2026. No macro, syntax, notation, axiom, sorry.
-/
import Derived.Test.YtpdmnnfbdeiejaaDoorRows
import GoSem.ClaimSeven
namespace Go.Proofs.YtpdmnnfbdeiejaaDoor
namespace Rows

/-- THE TIED CARD OF 'flaillaw08.AttrsUnlike'. -/
def attrsUnlikeCard : Claim7 := { stood := { row := attrsUnlikeRow, standIns := [], harness := (true, "3566cc5f0dc563f8549e2165018215ca22bf6f585b9fb0d15402a9051870902b"), looks := true }, kinds := [], alts := [], laidByText := true, laidKinds := [.data, .data, .data, .sentinel, .sentinel, .data], laidTests := true, laidLooks := .later }
def AttrsUnlikeCardSaid : Prop := Claim7.holds Tryd.pinned (.plain (OpenSpec.ofChange attrsUnlikeSpec)) attrsUnlikeCard

/-- THE TIED CARD OF 'flaillaw08.AttrsWritten'. -/
def attrsWrittenCard : Claim7 := { stood := { row := attrsWrittenRow, standIns := [], harness := (true, "3566cc5f0dc563f8549e2165018215ca22bf6f585b9fb0d15402a9051870902b"), looks := true }, kinds := [], alts := [], laidByText := true, laidKinds := [.data, .data, .data, .sentinel, .sentinel, .data], laidTests := true, laidLooks := .later }
def AttrsWrittenCardSaid : Prop := Claim7.holds Tryd.pinned (.plain (OpenSpec.ofChange attrsWrittenSpec)) attrsWrittenCard

/-- THE TIED CARD OF 'flaillaw08.AttrsBlanks'. -/
def attrsBlanksCard : Claim7 := { stood := { row := attrsBlanksRow, standIns := [], harness := (true, "3566cc5f0dc563f8549e2165018215ca22bf6f585b9fb0d15402a9051870902b"), looks := true }, kinds := [], alts := [], laidByText := true, laidKinds := [.data, .data, .data, .sentinel, .sentinel, .data], laidTests := true, laidLooks := .later }
def AttrsBlanksCardSaid : Prop := Claim7.holds Tryd.pinned (.plain (OpenSpec.ofChange attrsBlanksSpec)) attrsBlanksCard

/-- THE TIED CARD OF 'flaillaw08.AttrsPlain'. -/
def attrsPlainCard : Claim7 := { stood := { row := attrsPlainRow, standIns := [], harness := (true, "3566cc5f0dc563f8549e2165018215ca22bf6f585b9fb0d15402a9051870902b"), looks := true }, kinds := [], alts := [], laidByText := true, laidKinds := [.data, .data, .data, .sentinel, .sentinel, .data], laidTests := true, laidLooks := .later }
def AttrsPlainCardSaid : Prop := Claim7.holds Tryd.pinned (.plain (OpenSpec.ofChange attrsPlainSpec)) attrsPlainCard

/-- THE TIED CARD OF 'flaillaw08.AttrsClean'. -/
def attrsCleanCard : Claim7 := { stood := { row := attrsCleanRow, standIns := [], harness := (true, "3566cc5f0dc563f8549e2165018215ca22bf6f585b9fb0d15402a9051870902b"), looks := true }, kinds := [], alts := [], laidByText := true, laidKinds := [.data, .data, .data, .sentinel, .sentinel, .data], laidTests := true, laidLooks := .later }
def AttrsCleanCardSaid : Prop := Claim7.holds Tryd.pinned (.plain (OpenSpec.ofChange attrsCleanSpec)) attrsCleanCard

/-- THE SECOND FORM's CARD OF 'flaillaw08.AttrsUnlike'. -/
def attrsUnlikeUptoCard : Claim7 := { stood := { row := attrsUnlikeUptoRow, standIns := [], harness := (true, "3566cc5f0dc563f8549e2165018215ca22bf6f585b9fb0d15402a9051870902b"), looks := true }, kinds := [], alts := [], laidByText := true, laidKinds := [.data, .data, .data, .sentinel, .sentinel, .data], laidTests := true, laidLooks := .later }
def AttrsUnlikeUptoCardSaid : Prop := Claim7.holds Tryd.pinned (.plain (OpenSpec.upto attrsUnlikeSpec)) attrsUnlikeUptoCard

/-- THE SECOND FORM's CARD OF 'flaillaw08.AttrsWritten'. -/
def attrsWrittenUptoCard : Claim7 := { stood := { row := attrsWrittenUptoRow, standIns := [], harness := (true, "3566cc5f0dc563f8549e2165018215ca22bf6f585b9fb0d15402a9051870902b"), looks := true }, kinds := [], alts := [], laidByText := true, laidKinds := [.data, .data, .data, .sentinel, .sentinel, .data], laidTests := true, laidLooks := .later }
def AttrsWrittenUptoCardSaid : Prop := Claim7.holds Tryd.pinned (.plain (OpenSpec.upto attrsWrittenSpec)) attrsWrittenUptoCard

/-- THE SECOND FORM's CARD OF 'flaillaw08.AttrsBlanks'. -/
def attrsBlanksUptoCard : Claim7 := { stood := { row := attrsBlanksUptoRow, standIns := [], harness := (true, "3566cc5f0dc563f8549e2165018215ca22bf6f585b9fb0d15402a9051870902b"), looks := true }, kinds := [], alts := [], laidByText := true, laidKinds := [.data, .data, .data, .sentinel, .sentinel, .data], laidTests := true, laidLooks := .later }
def AttrsBlanksUptoCardSaid : Prop := Claim7.holds Tryd.pinned (.plain (OpenSpec.upto attrsBlanksSpec)) attrsBlanksUptoCard

/-- THE SECOND FORM's CARD OF 'flaillaw08.AttrsPlain'. -/
def attrsPlainUptoCard : Claim7 := { stood := { row := attrsPlainUptoRow, standIns := [], harness := (true, "3566cc5f0dc563f8549e2165018215ca22bf6f585b9fb0d15402a9051870902b"), looks := true }, kinds := [], alts := [], laidByText := true, laidKinds := [.data, .data, .data, .sentinel, .sentinel, .data], laidTests := true, laidLooks := .later }
def AttrsPlainUptoCardSaid : Prop := Claim7.holds Tryd.pinned (.plain (OpenSpec.upto attrsPlainSpec)) attrsPlainUptoCard

/-- THE SECOND FORM's CARD OF 'flaillaw08.AttrsClean'. -/
def attrsCleanUptoCard : Claim7 := { stood := { row := attrsCleanUptoRow, standIns := [], harness := (true, "3566cc5f0dc563f8549e2165018215ca22bf6f585b9fb0d15402a9051870902b"), looks := true }, kinds := [], alts := [], laidByText := true, laidKinds := [.data, .data, .data, .sentinel, .sentinel, .data], laidTests := true, laidLooks := .later }
def AttrsCleanUptoCardSaid : Prop := Claim7.holds Tryd.pinned (.plain (OpenSpec.upto attrsCleanSpec)) attrsCleanUptoCard
end Rows
end Go.Proofs.YtpdmnnfbdeiejaaDoor
