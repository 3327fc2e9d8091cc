/-
  No cell of these rows narrows 'for every input' (looked for: loops, veiled, ifaces, maps, wideKeys, modest, calm, conditions, laid).
  DERIVED. THE GIVEN ROWS OF THIS SEAT. 6 by the template 'for every input the law returns true; each argument reads behind the call as it read before'; 0 by the template 'total and deterministic' (their statements: YtbceopiipigljaaTotals.lean).
  GIVEN WITH THE SEED: the statements are not yours to turn. If you find one false, say at which input.
  Laid BY PROGRAM, IN A SANDBOX (cutbox-rows.mjs): the forced cells as the released guide's own fill.sh prints them over the translation 45a15f90f29a6de5… (all of the seat's roots in one cut). By AI agents, Wed Nov 11 2026. No macro, syntax, notation, axiom, sorry.
-/
import Derived.Test.YtbceopiipigljaaChecked
import GoSem.Claim
import GoSem.ClaimJoined
import GoSem.ClaimMapViews
import Derived.JoinedTies
import Derived.KernelRfl
namespace Go.Proofs.Ytbceopiipigljaa
/- THE CELL 'sum', in the pinned program and in every row, IS THE sha256 OF THE DUMP (.gsa) THAT YtbceopiipigljaaProg.lean LOADS. Nothing in Lean hashes anything: it is a label: what it is worth is what the hold of that sum in a sandbox is worth. -/
noncomputable def Try.pinned : Pinned := { name := "ytbceopiipigljaa", sum := "45a15f90f29a6de5aeb72eb141f04a989f36ad5c47db9afa692639df7abbfe0c", checked := Try.checked }
namespace Rows
def none {H : Type} : Left H := { results := [], args := [] }

/-- 'flaillaw11.DoctypeReads': WHATEVER THE INPUT: true; the input reads as it did. -/
def doctypeReadsSpec : ChangeSpec := { name := "doctypeReads", fn := fun _ => fun
  | [d1, d2] => { results := [.lit (.bool true)], args := [d1, d2] }
  | _ => none }
def doctypeReadsRow : OpenClaim := { program := "ytbceopiipigljaa", sum := "45a15f90f29a6de5aeb72eb141f04a989f36ad5c47db9afa692639df7abbfe0c", func := "flail/flaillaw11.DoctypeReads", spec := "doctypeReads", inPlace := ["internal/bytealg.IndexByteString", "internal/bytealg.IndexString", "internal/abi.NoEscape", "internal/bytealg.MakeNoZero"], named := ["internal/bytealg.MaxLen"], apart := false }
def DoctypeReadsSaid : Prop := doctypeReadsRow.holds Try.pinned (OpenSpec.ofChange doctypeReadsSpec)

/-- ITS FALSE NEIGHBOUR: 'it returns false'. Refute it at one input. -/
def doctypeReadsWrong : ChangeSpec := { name := "doctypeReads", fn := fun _ => fun
  | [d1, d2] => { results := [.lit (.bool false)], args := [d1, d2] }
  | _ => none }
def DoctypeReadsWrongFalsely : Prop := doctypeReadsRow.holds Try.pinned (OpenSpec.ofChange doctypeReadsWrong)

/-- 'flaillaw11.DoctypeParses': WHATEVER THE INPUT: true; the input reads as it did. -/
def doctypeParsesSpec : ChangeSpec := { name := "doctypeParses", fn := fun _ => fun
  | [d1, d2] => { results := [.lit (.bool true)], args := [d1, d2] }
  | _ => none }
def doctypeParsesRow : OpenClaim := { program := "ytbceopiipigljaa", sum := "45a15f90f29a6de5aeb72eb141f04a989f36ad5c47db9afa692639df7abbfe0c", func := "flail/flaillaw11.DoctypeParses", spec := "doctypeParses", inPlace := ["internal/bytealg.IndexByteString", "internal/bytealg.IndexString", "internal/abi.NoEscape", "internal/bytealg.MakeNoZero"], named := ["internal/bytealg.MaxLen"], apart := false }
def DoctypeParsesSaid : Prop := doctypeParsesRow.holds Try.pinned (OpenSpec.ofChange doctypeParsesSpec)

/-- ITS FALSE NEIGHBOUR: 'it returns false'. Refute it at one input. -/
def doctypeParsesWrong : ChangeSpec := { name := "doctypeParses", fn := fun _ => fun
  | [d1, d2] => { results := [.lit (.bool false)], args := [d1, d2] }
  | _ => none }
def DoctypeParsesWrongFalsely : Prop := doctypeParsesRow.holds Try.pinned (OpenSpec.ofChange doctypeParsesWrong)

/-- 'flaillaw11.DoctypeSays': WHATEVER THE INPUT: true; the input reads as it did. -/
def doctypeSaysSpec : ChangeSpec := { name := "doctypeSays", fn := fun _ => fun
  | [d] => { results := [.lit (.bool true)], args := [d] }
  | _ => none }
def doctypeSaysRow : OpenClaim := { program := "ytbceopiipigljaa", sum := "45a15f90f29a6de5aeb72eb141f04a989f36ad5c47db9afa692639df7abbfe0c", func := "flail/flaillaw11.DoctypeSays", spec := "doctypeSays", inPlace := ["internal/bytealg.IndexByteString", "internal/bytealg.IndexString", "internal/abi.NoEscape", "internal/bytealg.MakeNoZero"], named := ["internal/bytealg.MaxLen"], apart := false }
def DoctypeSaysSaid : Prop := doctypeSaysRow.holds Try.pinned (OpenSpec.ofChange doctypeSaysSpec)

/-- ITS FALSE NEIGHBOUR: 'it returns false'. Refute it at one input. -/
def doctypeSaysWrong : ChangeSpec := { name := "doctypeSays", fn := fun _ => fun
  | [d] => { results := [.lit (.bool false)], args := [d] }
  | _ => none }
def DoctypeSaysWrongFalsely : Prop := doctypeSaysRow.holds Try.pinned (OpenSpec.ofChange doctypeSaysWrong)

/-- 'flaillaw11.DoctypeWritten': WHATEVER THE INPUT: true; the input reads as it did. -/
def doctypeWrittenSpec : ChangeSpec := { name := "doctypeWritten", fn := fun _ => fun
  | [d1, d2, d3, d4, d5] => { results := [.lit (.bool true)], args := [d1, d2, d3, d4, d5] }
  | _ => none }
def doctypeWrittenRow : OpenClaim := { program := "ytbceopiipigljaa", sum := "45a15f90f29a6de5aeb72eb141f04a989f36ad5c47db9afa692639df7abbfe0c", func := "flail/flaillaw11.DoctypeWritten", spec := "doctypeWritten", inPlace := ["internal/bytealg.IndexByteString", "internal/bytealg.IndexString", "internal/abi.NoEscape", "internal/bytealg.MakeNoZero"], named := ["internal/bytealg.MaxLen"], apart := false }
def DoctypeWrittenSaid : Prop := doctypeWrittenRow.holds Try.pinned (OpenSpec.ofChange doctypeWrittenSpec)

/-- ITS FALSE NEIGHBOUR: 'it returns false'. Refute it at one input. -/
def doctypeWrittenWrong : ChangeSpec := { name := "doctypeWritten", fn := fun _ => fun
  | [d1, d2, d3, d4, d5] => { results := [.lit (.bool false)], args := [d1, d2, d3, d4, d5] }
  | _ => none }
def DoctypeWrittenWrongFalsely : Prop := doctypeWrittenRow.holds Try.pinned (OpenSpec.ofChange doctypeWrittenWrong)

/-- 'flaillaw11.DoctypeRest': WHATEVER THE INPUT: true; the input reads as it did. -/
def doctypeRestSpec : ChangeSpec := { name := "doctypeRest", fn := fun _ => fun
  | [d1, d2] => { results := [.lit (.bool true)], args := [d1, d2] }
  | _ => none }
def doctypeRestRow : OpenClaim := { program := "ytbceopiipigljaa", sum := "45a15f90f29a6de5aeb72eb141f04a989f36ad5c47db9afa692639df7abbfe0c", func := "flail/flaillaw11.DoctypeRest", spec := "doctypeRest", inPlace := ["internal/bytealg.IndexByteString", "internal/bytealg.IndexString", "internal/abi.NoEscape", "internal/bytealg.MakeNoZero"], named := ["internal/bytealg.MaxLen"], apart := false }
def DoctypeRestSaid : Prop := doctypeRestRow.holds Try.pinned (OpenSpec.ofChange doctypeRestSpec)

/-- ITS FALSE NEIGHBOUR: 'it returns false'. Refute it at one input. -/
def doctypeRestWrong : ChangeSpec := { name := "doctypeRest", fn := fun _ => fun
  | [d1, d2] => { results := [.lit (.bool false)], args := [d1, d2] }
  | _ => none }
def DoctypeRestWrongFalsely : Prop := doctypeRestRow.holds Try.pinned (OpenSpec.ofChange doctypeRestWrong)

/-- 'flaillaw11.DoctypeCase': WHATEVER THE INPUT: true; the input reads as it did. -/
def doctypeCaseSpec : ChangeSpec := { name := "doctypeCase", fn := fun _ => fun
  | [d1, d2] => { results := [.lit (.bool true)], args := [d1, d2] }
  | _ => none }
def doctypeCaseRow : OpenClaim := { program := "ytbceopiipigljaa", sum := "45a15f90f29a6de5aeb72eb141f04a989f36ad5c47db9afa692639df7abbfe0c", func := "flail/flaillaw11.DoctypeCase", spec := "doctypeCase", inPlace := ["internal/bytealg.IndexByteString", "internal/bytealg.IndexString", "internal/abi.NoEscape", "internal/bytealg.MakeNoZero"], named := ["internal/bytealg.MaxLen"], apart := false }
def DoctypeCaseSaid : Prop := doctypeCaseRow.holds Try.pinned (OpenSpec.ofChange doctypeCaseSpec)

/-- ITS FALSE NEIGHBOUR: 'it returns false'. Refute it at one input. -/
def doctypeCaseWrong : ChangeSpec := { name := "doctypeCase", fn := fun _ => fun
  | [d1, d2] => { results := [.lit (.bool false)], args := [d1, d2] }
  | _ => none }
def DoctypeCaseWrongFalsely : Prop := doctypeCaseRow.holds Try.pinned (OpenSpec.ofChange doctypeCaseWrong)

/- THE SECOND FORM. 'bulk': how many values and letters a reading holds, each counted each time it is reached (what is shared counts as often as it is met; a slice's spare places count too). A statement '..UptoSaid' is the law's where the arguments, and the package variables that the reading takes, are together of bulk at most 1048576: NARROWER than '..Said'. Prove '..Said' where nothing that the law and all that it calls make is longer than what came in: it says more and counts as full. Else prove '..UptoSaid'. A law counts once. -/
mutual
def uptoBulk {H : Type} : DataW H → Nat
  | .lit (.string bytes) => bytes.length + 1
  | .lit _ => 1
  | .nil => 1
  | .ptr d => uptoBulk d + 1
  | .slice elems spare => uptoBulkAll elems + uptoBulkAll spare + 1
  | .agg parts => uptoBulkAll parts + 1
  | .iface _ d => uptoBulk d + 1
  | .map entries => uptoBulkEntries entries + 1
  | .held _ => 1
def uptoBulkAll {H : Type} : List (DataW H) → Nat
  | [] => 0
  | d :: r => uptoBulk d + uptoBulkAll r
def uptoBulkEntries {H : Type} : List (Lit × DataW H) → Nat
  | [] => 0
  | x :: r => uptoBulkEntry x + uptoBulkEntries r
def uptoBulkEntry {H : Type} : Lit × DataW H → Nat
  | (.string bytes, d) => bytes.length + uptoBulk d + 1
  | (_, d) => uptoBulk d + 1
 end
def uptoSmall : (H : Type) → List (DataW H) → Bool := fun _ ds => decide (uptoBulkAll ds ≤ 1048576)
def OpenSpec.upto (s : _root_.Go.ChangeSpec) : _root_.Go.OpenSpec := { _root_.Go.OpenSpec.ofChange s with cond := some uptoSmall }

/-- 'flaillaw11.DoctypeReads', WHERE WHAT IT READS IS OF BULK AT MOST 1048576: true; the input reads as it did. -/
def doctypeReadsUptoRow : OpenClaim := { program := "ytbceopiipigljaa", sum := "45a15f90f29a6de5aeb72eb141f04a989f36ad5c47db9afa692639df7abbfe0c", func := "flail/flaillaw11.DoctypeReads", spec := "doctypeReads", inPlace := ["internal/bytealg.IndexByteString", "internal/bytealg.IndexString", "internal/abi.NoEscape", "internal/bytealg.MakeNoZero"], named := ["internal/bytealg.MaxLen"], apart := false, narrowed := true }
def DoctypeReadsUptoSaid : Prop := doctypeReadsUptoRow.holds Try.pinned (OpenSpec.upto doctypeReadsSpec)

/-- 'flaillaw11.DoctypeParses', WHERE WHAT IT READS IS OF BULK AT MOST 1048576: true; the input reads as it did. -/
def doctypeParsesUptoRow : OpenClaim := { program := "ytbceopiipigljaa", sum := "45a15f90f29a6de5aeb72eb141f04a989f36ad5c47db9afa692639df7abbfe0c", func := "flail/flaillaw11.DoctypeParses", spec := "doctypeParses", inPlace := ["internal/bytealg.IndexByteString", "internal/bytealg.IndexString", "internal/abi.NoEscape", "internal/bytealg.MakeNoZero"], named := ["internal/bytealg.MaxLen"], apart := false, narrowed := true }
def DoctypeParsesUptoSaid : Prop := doctypeParsesUptoRow.holds Try.pinned (OpenSpec.upto doctypeParsesSpec)

/-- 'flaillaw11.DoctypeSays', WHERE WHAT IT READS IS OF BULK AT MOST 1048576: true; the input reads as it did. -/
def doctypeSaysUptoRow : OpenClaim := { program := "ytbceopiipigljaa", sum := "45a15f90f29a6de5aeb72eb141f04a989f36ad5c47db9afa692639df7abbfe0c", func := "flail/flaillaw11.DoctypeSays", spec := "doctypeSays", inPlace := ["internal/bytealg.IndexByteString", "internal/bytealg.IndexString", "internal/abi.NoEscape", "internal/bytealg.MakeNoZero"], named := ["internal/bytealg.MaxLen"], apart := false, narrowed := true }
def DoctypeSaysUptoSaid : Prop := doctypeSaysUptoRow.holds Try.pinned (OpenSpec.upto doctypeSaysSpec)

/-- 'flaillaw11.DoctypeWritten', WHERE WHAT IT READS IS OF BULK AT MOST 1048576: true; the input reads as it did. -/
def doctypeWrittenUptoRow : OpenClaim := { program := "ytbceopiipigljaa", sum := "45a15f90f29a6de5aeb72eb141f04a989f36ad5c47db9afa692639df7abbfe0c", func := "flail/flaillaw11.DoctypeWritten", spec := "doctypeWritten", inPlace := ["internal/bytealg.IndexByteString", "internal/bytealg.IndexString", "internal/abi.NoEscape", "internal/bytealg.MakeNoZero"], named := ["internal/bytealg.MaxLen"], apart := false, narrowed := true }
def DoctypeWrittenUptoSaid : Prop := doctypeWrittenUptoRow.holds Try.pinned (OpenSpec.upto doctypeWrittenSpec)

/-- 'flaillaw11.DoctypeRest', WHERE WHAT IT READS IS OF BULK AT MOST 1048576: true; the input reads as it did. -/
def doctypeRestUptoRow : OpenClaim := { program := "ytbceopiipigljaa", sum := "45a15f90f29a6de5aeb72eb141f04a989f36ad5c47db9afa692639df7abbfe0c", func := "flail/flaillaw11.DoctypeRest", spec := "doctypeRest", inPlace := ["internal/bytealg.IndexByteString", "internal/bytealg.IndexString", "internal/abi.NoEscape", "internal/bytealg.MakeNoZero"], named := ["internal/bytealg.MaxLen"], apart := false, narrowed := true }
def DoctypeRestUptoSaid : Prop := doctypeRestUptoRow.holds Try.pinned (OpenSpec.upto doctypeRestSpec)

/-- 'flaillaw11.DoctypeCase', WHERE WHAT IT READS IS OF BULK AT MOST 1048576: true; the input reads as it did. -/
def doctypeCaseUptoRow : OpenClaim := { program := "ytbceopiipigljaa", sum := "45a15f90f29a6de5aeb72eb141f04a989f36ad5c47db9afa692639df7abbfe0c", func := "flail/flaillaw11.DoctypeCase", spec := "doctypeCase", inPlace := ["internal/bytealg.IndexByteString", "internal/bytealg.IndexString", "internal/abi.NoEscape", "internal/bytealg.MakeNoZero"], named := ["internal/bytealg.MaxLen"], apart := false, narrowed := true }
def DoctypeCaseUptoSaid : Prop := doctypeCaseUptoRow.holds Try.pinned (OpenSpec.upto doctypeCaseSpec)

end Rows
end Go.Proofs.Ytbceopiipigljaa
