/-
  No cell of these rows narrows 'for every input' (looked for: loops, veiled, ifaces, maps, wideKeys, modest, calm, conditions, laid).
  DERIVED. THE GIVEN ROWS OF THIS SEAT. 6 by the template 'for every input the law returns true; each argument reads behind the call as it read before'; 0 by the template 'total and deterministic' (their statements: YthmfjnjjkcaalaaTotals.lean).
  GIVEN WITH THE SEED: the statements are not yours to turn. If you find one false, say at which input.
  Laid BY PROGRAM, IN A SANDBOX (cutbox-rows.mjs): the forced cells as the released guide's own fill.sh prints them over the translation 9cdafa5709a7cd9a… (all of the seat's roots in one cut). By AI agents, Wed Nov 11 2026. No macro, syntax, notation, axiom, sorry.
-/
import Derived.Test.YthmfjnjjkcaalaaChecked
import GoSem.Claim
import GoSem.ClaimJoined
import GoSem.ClaimMapViews
import Derived.JoinedTies
import Derived.KernelRfl
namespace Go.Proofs.Ythmfjnjjkcaalaa
/- THE CELL 'sum', in the pinned program and in every row, IS THE sha256 OF THE DUMP (.gsa) THAT YthmfjnjjkcaalaaProg.lean LOADS. Nothing in Lean hashes anything: it is a label: what it is worth is what the hold of that sum in a sandbox is worth. -/
noncomputable def Try.pinned : Pinned := { name := "ythmfjnjjkcaalaa", sum := "9cdafa5709a7cd9af6ce82cccfdcbf077bdcdc1edd1957bb7fdd9e4668b6b937", checked := Try.checked }
namespace Rows
def none {H : Type} : Left H := { results := [], args := [] }

/-- 'flaillaw13.ScriptFinds': WHATEVER THE INPUT: true; the input reads as it did. -/
def scriptFindsSpec : ChangeSpec := { name := "scriptFinds", fn := fun _ => fun
  | [d1, d2] => { results := [.lit (.bool true)], args := [d1, d2] }
  | _ => none }
def scriptFindsRow : OpenClaim := { program := "ythmfjnjjkcaalaa", sum := "9cdafa5709a7cd9af6ce82cccfdcbf077bdcdc1edd1957bb7fdd9e4668b6b937", func := "flail/flaillaw13.ScriptFinds", spec := "scriptFinds", inPlace := ["internal/abi.NoEscape", "internal/bytealg.MakeNoZero"], apart := false }
def ScriptFindsSaid : Prop := scriptFindsRow.holds Try.pinned (OpenSpec.ofChange scriptFindsSpec)

/-- ITS FALSE NEIGHBOUR: 'it returns false'. Refute it at one input. -/
def scriptFindsWrong : ChangeSpec := { name := "scriptFinds", fn := fun _ => fun
  | [d1, d2] => { results := [.lit (.bool false)], args := [d1, d2] }
  | _ => none }
def ScriptFindsWrongFalsely : Prop := scriptFindsRow.holds Try.pinned (OpenSpec.ofChange scriptFindsWrong)

/-- 'flaillaw13.ScriptPlain': WHATEVER THE INPUT: true; the input reads as it did. -/
def scriptPlainSpec : ChangeSpec := { name := "scriptPlain", fn := fun _ => fun
  | [d1, d2] => { results := [.lit (.bool true)], args := [d1, d2] }
  | _ => none }
def scriptPlainRow : OpenClaim := { program := "ythmfjnjjkcaalaa", sum := "9cdafa5709a7cd9af6ce82cccfdcbf077bdcdc1edd1957bb7fdd9e4668b6b937", func := "flail/flaillaw13.ScriptPlain", spec := "scriptPlain", inPlace := ["internal/abi.NoEscape", "internal/bytealg.MakeNoZero", "internal/bytealg.IndexByteString", "internal/bytealg.IndexString"], unfollowed := true, recurses := true, named := ["internal/bytealg.MaxLen"], apart := false }
def ScriptPlainSaid : Prop := scriptPlainRow.holds Try.pinned (OpenSpec.ofChange scriptPlainSpec)

/-- ITS FALSE NEIGHBOUR: 'it returns false'. Refute it at one input. -/
def scriptPlainWrong : ChangeSpec := { name := "scriptPlain", fn := fun _ => fun
  | [d1, d2] => { results := [.lit (.bool false)], args := [d1, d2] }
  | _ => none }
def ScriptPlainWrongFalsely : Prop := scriptPlainRow.holds Try.pinned (OpenSpec.ofChange scriptPlainWrong)

/-- 'flaillaw13.ScriptEnds': WHATEVER THE INPUT: true; the input reads as it did. -/
def scriptEndsSpec : ChangeSpec := { name := "scriptEnds", fn := fun _ => fun
  | [d1, d2] => { results := [.lit (.bool true)], args := [d1, d2] }
  | _ => none }
def scriptEndsRow : OpenClaim := { program := "ythmfjnjjkcaalaa", sum := "9cdafa5709a7cd9af6ce82cccfdcbf077bdcdc1edd1957bb7fdd9e4668b6b937", func := "flail/flaillaw13.ScriptEnds", spec := "scriptEnds", inPlace := ["internal/abi.NoEscape", "internal/bytealg.MakeNoZero", "internal/bytealg.IndexByteString", "internal/bytealg.IndexString"], unfollowed := true, recurses := true, named := ["internal/bytealg.MaxLen"], apart := false }
def ScriptEndsSaid : Prop := scriptEndsRow.holds Try.pinned (OpenSpec.ofChange scriptEndsSpec)

/-- ITS FALSE NEIGHBOUR: 'it returns false'. Refute it at one input. -/
def scriptEndsWrong : ChangeSpec := { name := "scriptEnds", fn := fun _ => fun
  | [d1, d2] => { results := [.lit (.bool false)], args := [d1, d2] }
  | _ => none }
def ScriptEndsWrongFalsely : Prop := scriptEndsRow.holds Try.pinned (OpenSpec.ofChange scriptEndsWrong)

/-- 'flaillaw13.ScriptWithin': WHATEVER THE INPUT: true; the input reads as it did. -/
def scriptWithinSpec : ChangeSpec := { name := "scriptWithin", fn := fun _ => fun
  | [d1, d2, d3] => { results := [.lit (.bool true)], args := [d1, d2, d3] }
  | _ => none }
def scriptWithinRow : OpenClaim := { program := "ythmfjnjjkcaalaa", sum := "9cdafa5709a7cd9af6ce82cccfdcbf077bdcdc1edd1957bb7fdd9e4668b6b937", func := "flail/flaillaw13.ScriptWithin", spec := "scriptWithin", inPlace := ["internal/abi.NoEscape", "internal/bytealg.MakeNoZero"], apart := false }
def ScriptWithinSaid : Prop := scriptWithinRow.holds Try.pinned (OpenSpec.ofChange scriptWithinSpec)

/-- ITS FALSE NEIGHBOUR: 'it returns false'. Refute it at one input. -/
def scriptWithinWrong : ChangeSpec := { name := "scriptWithin", fn := fun _ => fun
  | [d1, d2, d3] => { results := [.lit (.bool false)], args := [d1, d2, d3] }
  | _ => none }
def ScriptWithinWrongFalsely : Prop := scriptWithinRow.holds Try.pinned (OpenSpec.ofChange scriptWithinWrong)

/-- 'flaillaw13.ScriptRest': WHATEVER THE INPUT: true; the input reads as it did. -/
def scriptRestSpec : ChangeSpec := { name := "scriptRest", fn := fun _ => fun
  | [d1, d2, d3] => { results := [.lit (.bool true)], args := [d1, d2, d3] }
  | _ => none }
def scriptRestRow : OpenClaim := { program := "ythmfjnjjkcaalaa", sum := "9cdafa5709a7cd9af6ce82cccfdcbf077bdcdc1edd1957bb7fdd9e4668b6b937", func := "flail/flaillaw13.ScriptRest", spec := "scriptRest", inPlace := ["internal/abi.NoEscape", "internal/bytealg.MakeNoZero"], apart := false }
def ScriptRestSaid : Prop := scriptRestRow.holds Try.pinned (OpenSpec.ofChange scriptRestSpec)

/-- ITS FALSE NEIGHBOUR: 'it returns false'. Refute it at one input. -/
def scriptRestWrong : ChangeSpec := { name := "scriptRest", fn := fun _ => fun
  | [d1, d2, d3] => { results := [.lit (.bool false)], args := [d1, d2, d3] }
  | _ => none }
def ScriptRestWrongFalsely : Prop := scriptRestRow.holds Try.pinned (OpenSpec.ofChange scriptRestWrong)

/-- 'flaillaw13.ScriptCase': WHATEVER THE INPUT: true; the input reads as it did. -/
def scriptCaseSpec : ChangeSpec := { name := "scriptCase", fn := fun _ => fun
  | [d1, d2] => { results := [.lit (.bool true)], args := [d1, d2] }
  | _ => none }
def scriptCaseRow : OpenClaim := { program := "ythmfjnjjkcaalaa", sum := "9cdafa5709a7cd9af6ce82cccfdcbf077bdcdc1edd1957bb7fdd9e4668b6b937", func := "flail/flaillaw13.ScriptCase", spec := "scriptCase", inPlace := ["internal/abi.NoEscape", "internal/bytealg.MakeNoZero"], apart := false }
def ScriptCaseSaid : Prop := scriptCaseRow.holds Try.pinned (OpenSpec.ofChange scriptCaseSpec)

/-- ITS FALSE NEIGHBOUR: 'it returns false'. Refute it at one input. -/
def scriptCaseWrong : ChangeSpec := { name := "scriptCase", fn := fun _ => fun
  | [d1, d2] => { results := [.lit (.bool false)], args := [d1, d2] }
  | _ => none }
def ScriptCaseWrongFalsely : Prop := scriptCaseRow.holds Try.pinned (OpenSpec.ofChange scriptCaseWrong)

/- THE SECOND FORM. 'bulk': how many values and letters a reading holds, each counted each time it is reached (what is shared counts as often as it is met; a slice's spare places count too). A statement '..UptoSaid' is the law's where the arguments, and the package variables that the reading takes, are together of bulk at most 1048576: NARROWER than '..Said'. Prove '..Said' where nothing that the law and all that it calls make is longer than what came in: it says more and counts as full. Else prove '..UptoSaid'. A law counts once. -/
mutual
def uptoBulk {H : Type} : DataW H → Nat
  | .lit (.string bytes) => bytes.length + 1
  | .lit _ => 1
  | .nil => 1
  | .ptr d => uptoBulk d + 1
  | .slice elems spare => uptoBulkAll elems + uptoBulkAll spare + 1
  | .agg parts => uptoBulkAll parts + 1
  | .iface _ d => uptoBulk d + 1
  | .map entries => uptoBulkEntries entries + 1
  | .held _ => 1
def uptoBulkAll {H : Type} : List (DataW H) → Nat
  | [] => 0
  | d :: r => uptoBulk d + uptoBulkAll r
def uptoBulkEntries {H : Type} : List (Lit × DataW H) → Nat
  | [] => 0
  | x :: r => uptoBulkEntry x + uptoBulkEntries r
def uptoBulkEntry {H : Type} : Lit × DataW H → Nat
  | (.string bytes, d) => bytes.length + uptoBulk d + 1
  | (_, d) => uptoBulk d + 1
 end
def uptoSmall : (H : Type) → List (DataW H) → Bool := fun _ ds => decide (uptoBulkAll ds ≤ 1048576)
def OpenSpec.upto (s : _root_.Go.ChangeSpec) : _root_.Go.OpenSpec := { _root_.Go.OpenSpec.ofChange s with cond := some uptoSmall }

/-- 'flaillaw13.ScriptFinds', WHERE WHAT IT READS IS OF BULK AT MOST 1048576: true; the input reads as it did. -/
def scriptFindsUptoRow : OpenClaim := { program := "ythmfjnjjkcaalaa", sum := "9cdafa5709a7cd9af6ce82cccfdcbf077bdcdc1edd1957bb7fdd9e4668b6b937", func := "flail/flaillaw13.ScriptFinds", spec := "scriptFinds", inPlace := ["internal/abi.NoEscape", "internal/bytealg.MakeNoZero"], apart := false, narrowed := true }
def ScriptFindsUptoSaid : Prop := scriptFindsUptoRow.holds Try.pinned (OpenSpec.upto scriptFindsSpec)

/-- 'flaillaw13.ScriptPlain', WHERE WHAT IT READS IS OF BULK AT MOST 1048576: true; the input reads as it did. -/
def scriptPlainUptoRow : OpenClaim := { program := "ythmfjnjjkcaalaa", sum := "9cdafa5709a7cd9af6ce82cccfdcbf077bdcdc1edd1957bb7fdd9e4668b6b937", func := "flail/flaillaw13.ScriptPlain", spec := "scriptPlain", inPlace := ["internal/abi.NoEscape", "internal/bytealg.MakeNoZero", "internal/bytealg.IndexByteString", "internal/bytealg.IndexString"], unfollowed := true, recurses := true, named := ["internal/bytealg.MaxLen"], apart := false, narrowed := true }
def ScriptPlainUptoSaid : Prop := scriptPlainUptoRow.holds Try.pinned (OpenSpec.upto scriptPlainSpec)

/-- 'flaillaw13.ScriptEnds', WHERE WHAT IT READS IS OF BULK AT MOST 1048576: true; the input reads as it did. -/
def scriptEndsUptoRow : OpenClaim := { program := "ythmfjnjjkcaalaa", sum := "9cdafa5709a7cd9af6ce82cccfdcbf077bdcdc1edd1957bb7fdd9e4668b6b937", func := "flail/flaillaw13.ScriptEnds", spec := "scriptEnds", inPlace := ["internal/abi.NoEscape", "internal/bytealg.MakeNoZero", "internal/bytealg.IndexByteString", "internal/bytealg.IndexString"], unfollowed := true, recurses := true, named := ["internal/bytealg.MaxLen"], apart := false, narrowed := true }
def ScriptEndsUptoSaid : Prop := scriptEndsUptoRow.holds Try.pinned (OpenSpec.upto scriptEndsSpec)

/-- 'flaillaw13.ScriptWithin', WHERE WHAT IT READS IS OF BULK AT MOST 1048576: true; the input reads as it did. -/
def scriptWithinUptoRow : OpenClaim := { program := "ythmfjnjjkcaalaa", sum := "9cdafa5709a7cd9af6ce82cccfdcbf077bdcdc1edd1957bb7fdd9e4668b6b937", func := "flail/flaillaw13.ScriptWithin", spec := "scriptWithin", inPlace := ["internal/abi.NoEscape", "internal/bytealg.MakeNoZero"], apart := false, narrowed := true }
def ScriptWithinUptoSaid : Prop := scriptWithinUptoRow.holds Try.pinned (OpenSpec.upto scriptWithinSpec)

/-- 'flaillaw13.ScriptRest', WHERE WHAT IT READS IS OF BULK AT MOST 1048576: true; the input reads as it did. -/
def scriptRestUptoRow : OpenClaim := { program := "ythmfjnjjkcaalaa", sum := "9cdafa5709a7cd9af6ce82cccfdcbf077bdcdc1edd1957bb7fdd9e4668b6b937", func := "flail/flaillaw13.ScriptRest", spec := "scriptRest", inPlace := ["internal/abi.NoEscape", "internal/bytealg.MakeNoZero"], apart := false, narrowed := true }
def ScriptRestUptoSaid : Prop := scriptRestUptoRow.holds Try.pinned (OpenSpec.upto scriptRestSpec)

/-- 'flaillaw13.ScriptCase', WHERE WHAT IT READS IS OF BULK AT MOST 1048576: true; the input reads as it did. -/
def scriptCaseUptoRow : OpenClaim := { program := "ythmfjnjjkcaalaa", sum := "9cdafa5709a7cd9af6ce82cccfdcbf077bdcdc1edd1957bb7fdd9e4668b6b937", func := "flail/flaillaw13.ScriptCase", spec := "scriptCase", inPlace := ["internal/abi.NoEscape", "internal/bytealg.MakeNoZero"], apart := false, narrowed := true }
def ScriptCaseUptoSaid : Prop := scriptCaseUptoRow.holds Try.pinned (OpenSpec.upto scriptCaseSpec)

end Rows
end Go.Proofs.Ythmfjnjjkcaalaa
