/-
  No cell of these rows narrows 'for every input' (looked for: loops, veiled, ifaces, maps, wideKeys, modest, calm, conditions, laid).
  DERIVED. THE GIVEN ROWS OF THIS SEAT. 5 by the template 'for every input the law returns true; each argument reads behind the call as it read before'; 0 by the template 'total and deterministic' (their statements: YtloabbfahpgbcaaTotals.lean).
  GIVEN WITH THE SEED: the statements are not yours to turn. If you find one false, say at which input.
  Laid BY PROGRAM, IN A SANDBOX (cutbox-rows.mjs): the forced cells as the released guide's own fill.sh prints them over the translation 32843e981b5ee849… (all of the seat's roots in one cut). By AI agents, Wed Nov 11 2026. No macro, syntax, notation, axiom, sorry.
-/
import Derived.Test.YtloabbfahpgbcaaChecked
import GoSem.Claim
import GoSem.ClaimJoined
import GoSem.ClaimMapViews
import Derived.JoinedTies
import Derived.KernelRfl
namespace Go.Proofs.Ytloabbfahpgbcaa
/- THE CELL 'sum', in the pinned program and in every row, IS THE sha256 OF THE DUMP (.gsa) THAT YtloabbfahpgbcaaProg.lean LOADS. Nothing in Lean hashes anything: it is a label: what it is worth is what the hold of that sum in a sandbox is worth. -/
noncomputable def Try.pinned : Pinned := { name := "ytloabbfahpgbcaa", sum := "32843e981b5ee849e9098930885312a5c2784a03a07e947ee5dea24d09671468", checked := Try.checked }
namespace Rows
def none {H : Type} : Left H := { results := [], args := [] }

/-- 'flaillaw03.SignTells': WHATEVER THE INPUT: true; the input reads as it did. -/
def signTellsSpec : ChangeSpec := { name := "signTells", fn := fun _ => fun
  | [d] => { results := [.lit (.bool true)], args := [d] }
  | _ => none }
def signTellsRow : OpenClaim := { program := "ytloabbfahpgbcaa", sum := "32843e981b5ee849e9098930885312a5c2784a03a07e947ee5dea24d09671468", func := "flail/flaillaw03.SignTells", spec := "signTells", inPlace := ["internal/abi.NoEscape", "internal/bytealg.MakeNoZero"], apart := false }
def SignTellsSaid : Prop := signTellsRow.holds Try.pinned (OpenSpec.ofChange signTellsSpec)

/-- ITS FALSE NEIGHBOUR: 'it returns false'. Refute it at one input. -/
def signTellsWrong : ChangeSpec := { name := "signTells", fn := fun _ => fun
  | [d] => { results := [.lit (.bool false)], args := [d] }
  | _ => none }
def SignTellsWrongFalsely : Prop := signTellsRow.holds Try.pinned (OpenSpec.ofChange signTellsWrong)

/-- 'flaillaw03.SignLowers': WHATEVER THE INPUT: true; the input reads as it did. -/
def signLowersSpec : ChangeSpec := { name := "signLowers", fn := fun _ => fun
  | [d1, d2, d3] => { results := [.lit (.bool true)], args := [d1, d2, d3] }
  | _ => none }
def signLowersRow : OpenClaim := { program := "ytloabbfahpgbcaa", sum := "32843e981b5ee849e9098930885312a5c2784a03a07e947ee5dea24d09671468", func := "flail/flaillaw03.SignLowers", spec := "signLowers", inPlace := ["internal/abi.NoEscape", "internal/bytealg.MakeNoZero"], apart := false }
def SignLowersSaid : Prop := signLowersRow.holds Try.pinned (OpenSpec.ofChange signLowersSpec)

/-- ITS FALSE NEIGHBOUR: 'it returns false'. Refute it at one input. -/
def signLowersWrong : ChangeSpec := { name := "signLowers", fn := fun _ => fun
  | [d1, d2, d3] => { results := [.lit (.bool false)], args := [d1, d2, d3] }
  | _ => none }
def SignLowersWrongFalsely : Prop := signLowersRow.holds Try.pinned (OpenSpec.ofChange signLowersWrong)

/-- 'flaillaw03.SignOnce': WHATEVER THE INPUT: true; the input reads as it did. -/
def signOnceSpec : ChangeSpec := { name := "signOnce", fn := fun _ => fun
  | [d1, d2, d3] => { results := [.lit (.bool true)], args := [d1, d2, d3] }
  | _ => none }
def signOnceRow : OpenClaim := { program := "ytloabbfahpgbcaa", sum := "32843e981b5ee849e9098930885312a5c2784a03a07e947ee5dea24d09671468", func := "flail/flaillaw03.SignOnce", spec := "signOnce", inPlace := ["internal/abi.NoEscape", "internal/bytealg.MakeNoZero"], apart := false }
def SignOnceSaid : Prop := signOnceRow.holds Try.pinned (OpenSpec.ofChange signOnceSpec)

/-- ITS FALSE NEIGHBOUR: 'it returns false'. Refute it at one input. -/
def signOnceWrong : ChangeSpec := { name := "signOnce", fn := fun _ => fun
  | [d1, d2, d3] => { results := [.lit (.bool false)], args := [d1, d2, d3] }
  | _ => none }
def SignOnceWrongFalsely : Prop := signOnceRow.holds Try.pinned (OpenSpec.ofChange signOnceWrong)

/-- 'flaillaw03.SignHex': WHATEVER THE INPUT: true; the input reads as it did. -/
def signHexSpec : ChangeSpec := { name := "signHex", fn := fun _ => fun
  | [d] => { results := [.lit (.bool true)], args := [d] }
  | _ => none }
def signHexRow : OpenClaim := { program := "ytloabbfahpgbcaa", sum := "32843e981b5ee849e9098930885312a5c2784a03a07e947ee5dea24d09671468", func := "flail/flaillaw03.SignHex", spec := "signHex", inPlace := ["internal/abi.NoEscape", "internal/bytealg.MakeNoZero"], apart := false }
def SignHexSaid : Prop := signHexRow.holds Try.pinned (OpenSpec.ofChange signHexSpec)

/-- ITS FALSE NEIGHBOUR: 'it returns false'. Refute it at one input. -/
def signHexWrong : ChangeSpec := { name := "signHex", fn := fun _ => fun
  | [d] => { results := [.lit (.bool false)], args := [d] }
  | _ => none }
def SignHexWrongFalsely : Prop := signHexRow.holds Try.pinned (OpenSpec.ofChange signHexWrong)

/-- 'flaillaw03.SignJoins': WHATEVER THE INPUT: true; the input reads as it did. -/
def signJoinsSpec : ChangeSpec := { name := "signJoins", fn := fun _ => fun
  | [d1, d2] => { results := [.lit (.bool true)], args := [d1, d2] }
  | _ => none }
def signJoinsRow : OpenClaim := { program := "ytloabbfahpgbcaa", sum := "32843e981b5ee849e9098930885312a5c2784a03a07e947ee5dea24d09671468", func := "flail/flaillaw03.SignJoins", spec := "signJoins", inPlace := ["internal/abi.NoEscape", "internal/bytealg.MakeNoZero"], apart := false }
def SignJoinsSaid : Prop := signJoinsRow.holds Try.pinned (OpenSpec.ofChange signJoinsSpec)

/-- ITS FALSE NEIGHBOUR: 'it returns false'. Refute it at one input. -/
def signJoinsWrong : ChangeSpec := { name := "signJoins", fn := fun _ => fun
  | [d1, d2] => { results := [.lit (.bool false)], args := [d1, d2] }
  | _ => none }
def SignJoinsWrongFalsely : Prop := signJoinsRow.holds Try.pinned (OpenSpec.ofChange signJoinsWrong)

/- THE SECOND FORM. 'bulk': how many values and letters a reading holds, each counted each time it is reached (what is shared counts as often as it is met; a slice's spare places count too). A statement '..UptoSaid' is the law's where the arguments, and the package variables that the reading takes, are together of bulk at most 1048576: NARROWER than '..Said'. Prove '..Said' where nothing that the law and all that it calls make is longer than what came in: it says more and counts as full. Else prove '..UptoSaid'. A law counts once. -/
mutual
def uptoBulk {H : Type} : DataW H → Nat
  | .lit (.string bytes) => bytes.length + 1
  | .lit _ => 1
  | .nil => 1
  | .ptr d => uptoBulk d + 1
  | .slice elems spare => uptoBulkAll elems + uptoBulkAll spare + 1
  | .agg parts => uptoBulkAll parts + 1
  | .iface _ d => uptoBulk d + 1
  | .map entries => uptoBulkEntries entries + 1
  | .held _ => 1
def uptoBulkAll {H : Type} : List (DataW H) → Nat
  | [] => 0
  | d :: r => uptoBulk d + uptoBulkAll r
def uptoBulkEntries {H : Type} : List (Lit × DataW H) → Nat
  | [] => 0
  | x :: r => uptoBulkEntry x + uptoBulkEntries r
def uptoBulkEntry {H : Type} : Lit × DataW H → Nat
  | (.string bytes, d) => bytes.length + uptoBulk d + 1
  | (_, d) => uptoBulk d + 1
 end
def uptoSmall : (H : Type) → List (DataW H) → Bool := fun _ ds => decide (uptoBulkAll ds ≤ 1048576)
def OpenSpec.upto (s : _root_.Go.ChangeSpec) : _root_.Go.OpenSpec := { _root_.Go.OpenSpec.ofChange s with cond := some uptoSmall }

/-- 'flaillaw03.SignTells', WHERE WHAT IT READS IS OF BULK AT MOST 1048576: true; the input reads as it did. -/
def signTellsUptoRow : OpenClaim := { program := "ytloabbfahpgbcaa", sum := "32843e981b5ee849e9098930885312a5c2784a03a07e947ee5dea24d09671468", func := "flail/flaillaw03.SignTells", spec := "signTells", inPlace := ["internal/abi.NoEscape", "internal/bytealg.MakeNoZero"], apart := false, narrowed := true }
def SignTellsUptoSaid : Prop := signTellsUptoRow.holds Try.pinned (OpenSpec.upto signTellsSpec)

/-- 'flaillaw03.SignLowers', WHERE WHAT IT READS IS OF BULK AT MOST 1048576: true; the input reads as it did. -/
def signLowersUptoRow : OpenClaim := { program := "ytloabbfahpgbcaa", sum := "32843e981b5ee849e9098930885312a5c2784a03a07e947ee5dea24d09671468", func := "flail/flaillaw03.SignLowers", spec := "signLowers", inPlace := ["internal/abi.NoEscape", "internal/bytealg.MakeNoZero"], apart := false, narrowed := true }
def SignLowersUptoSaid : Prop := signLowersUptoRow.holds Try.pinned (OpenSpec.upto signLowersSpec)

/-- 'flaillaw03.SignOnce', WHERE WHAT IT READS IS OF BULK AT MOST 1048576: true; the input reads as it did. -/
def signOnceUptoRow : OpenClaim := { program := "ytloabbfahpgbcaa", sum := "32843e981b5ee849e9098930885312a5c2784a03a07e947ee5dea24d09671468", func := "flail/flaillaw03.SignOnce", spec := "signOnce", inPlace := ["internal/abi.NoEscape", "internal/bytealg.MakeNoZero"], apart := false, narrowed := true }
def SignOnceUptoSaid : Prop := signOnceUptoRow.holds Try.pinned (OpenSpec.upto signOnceSpec)

/-- 'flaillaw03.SignHex', WHERE WHAT IT READS IS OF BULK AT MOST 1048576: true; the input reads as it did. -/
def signHexUptoRow : OpenClaim := { program := "ytloabbfahpgbcaa", sum := "32843e981b5ee849e9098930885312a5c2784a03a07e947ee5dea24d09671468", func := "flail/flaillaw03.SignHex", spec := "signHex", inPlace := ["internal/abi.NoEscape", "internal/bytealg.MakeNoZero"], apart := false, narrowed := true }
def SignHexUptoSaid : Prop := signHexUptoRow.holds Try.pinned (OpenSpec.upto signHexSpec)

/-- 'flaillaw03.SignJoins', WHERE WHAT IT READS IS OF BULK AT MOST 1048576: true; the input reads as it did. -/
def signJoinsUptoRow : OpenClaim := { program := "ytloabbfahpgbcaa", sum := "32843e981b5ee849e9098930885312a5c2784a03a07e947ee5dea24d09671468", func := "flail/flaillaw03.SignJoins", spec := "signJoins", inPlace := ["internal/abi.NoEscape", "internal/bytealg.MakeNoZero"], apart := false, narrowed := true }
def SignJoinsUptoSaid : Prop := signJoinsUptoRow.holds Try.pinned (OpenSpec.upto signJoinsSpec)

end Rows
end Go.Proofs.Ytloabbfahpgbcaa
