/-
  No cell of these rows narrows 'for every input' (looked for: loops, veiled, ifaces, maps, wideKeys, modest, calm, conditions, laid).
  DERIVED. THE GIVEN ROWS OF THIS SEAT. 6 by the template 'for every input the law returns true; each argument reads behind the call as it read before'; 0 by the template 'total and deterministic' (their statements: YtappdjhhaohejaaTotals.lean).
  GIVEN WITH THE SEED: the statements are not yours to turn. If you find one false, say at which input.
  Laid BY PROGRAM, IN A SANDBOX (cutbox-rows.mjs): the forced cells as the released guide's own fill.sh prints them over the translation ecff100903779bec… (all of the seat's roots in one cut). By AI agents, Wed Nov 11 2026. No macro, syntax, notation, axiom, sorry.
-/
import Derived.Test.YtappdjhhaohejaaChecked
import GoSem.Claim
import GoSem.ClaimJoined
import GoSem.ClaimMapViews
import Derived.JoinedTies
import Derived.KernelRfl
namespace Go.Proofs.Ytappdjhhaohejaa
/- THE CELL 'sum', in the pinned program and in every row, IS THE sha256 OF THE DUMP (.gsa) THAT YtappdjhhaohejaaProg.lean LOADS. Nothing in Lean hashes anything: it is a label: what it is worth is what the hold of that sum in a sandbox is worth. -/
noncomputable def Try.pinned : Pinned := { name := "ytappdjhhaohejaa", sum := "ecff100903779bec7d04e87c9e63976c4145545109d76a4a9774e035dadc8f03", checked := Try.checked }
namespace Rows
def none {H : Type} : Left H := { results := [], args := [] }

/-- 'flaillaw19.RenderTells': WHATEVER THE INPUT: true; the input reads as it did. -/
def renderTellsSpec : ChangeSpec := { name := "renderTells", fn := fun _ => fun
  | [d] => { results := [.lit (.bool true)], args := [d] }
  | _ => none }
def renderTellsRow : OpenClaim := { program := "ytappdjhhaohejaa", sum := "ecff100903779bec7d04e87c9e63976c4145545109d76a4a9774e035dadc8f03", func := "flail/flaillaw19.RenderTells", spec := "renderTells", inPlace := ["internal/abi.NoEscape"], unfollowed := true, recurses := true, apart := false }
def RenderTellsSaid : Prop := renderTellsRow.holds Try.pinned (OpenSpec.ofChange renderTellsSpec)

/-- ITS FALSE NEIGHBOUR: 'it returns false'. Refute it at one input. -/
def renderTellsWrong : ChangeSpec := { name := "renderTells", fn := fun _ => fun
  | [d] => { results := [.lit (.bool false)], args := [d] }
  | _ => none }
def RenderTellsWrongFalsely : Prop := renderTellsRow.holds Try.pinned (OpenSpec.ofChange renderTellsWrong)

/-- 'flaillaw19.RenderEdges': WHATEVER THE INPUT: true; the input reads as it did. -/
def renderEdgesSpec : ChangeSpec := { name := "renderEdges", fn := fun _ => fun
  | [d] => { results := [.lit (.bool true)], args := [d] }
  | _ => none }
def renderEdgesRow : OpenClaim := { program := "ytappdjhhaohejaa", sum := "ecff100903779bec7d04e87c9e63976c4145545109d76a4a9774e035dadc8f03", func := "flail/flaillaw19.RenderEdges", spec := "renderEdges", inPlace := ["internal/abi.NoEscape"], unfollowed := true, recurses := true, apart := false }
def RenderEdgesSaid : Prop := renderEdgesRow.holds Try.pinned (OpenSpec.ofChange renderEdgesSpec)

/-- ITS FALSE NEIGHBOUR: 'it returns false'. Refute it at one input. -/
def renderEdgesWrong : ChangeSpec := { name := "renderEdges", fn := fun _ => fun
  | [d] => { results := [.lit (.bool false)], args := [d] }
  | _ => none }
def RenderEdgesWrongFalsely : Prop := renderEdgesRow.holds Try.pinned (OpenSpec.ofChange renderEdgesWrong)

/-- 'flaillaw19.RenderHides': WHATEVER THE INPUT: true; the input reads as it did. -/
def renderHidesSpec : ChangeSpec := { name := "renderHides", fn := fun _ => fun
  | [d1, d2, d3, d4] => { results := [.lit (.bool true)], args := [d1, d2, d3, d4] }
  | _ => none }
def renderHidesRow : OpenClaim := { program := "ytappdjhhaohejaa", sum := "ecff100903779bec7d04e87c9e63976c4145545109d76a4a9774e035dadc8f03", func := "flail/flaillaw19.RenderHides", spec := "renderHides", inPlace := ["internal/abi.NoEscape"], unfollowed := true, recurses := true, apart := false }
def RenderHidesSaid : Prop := renderHidesRow.holds Try.pinned (OpenSpec.ofChange renderHidesSpec)

/-- ITS FALSE NEIGHBOUR: 'it returns false'. Refute it at one input. -/
def renderHidesWrong : ChangeSpec := { name := "renderHides", fn := fun _ => fun
  | [d1, d2, d3, d4] => { results := [.lit (.bool false)], args := [d1, d2, d3, d4] }
  | _ => none }
def RenderHidesWrongFalsely : Prop := renderHidesRow.holds Try.pinned (OpenSpec.ofChange renderHidesWrong)

/-- 'flaillaw19.RenderParts': WHATEVER THE INPUT: true; the input reads as it did. -/
def renderPartsSpec : ChangeSpec := { name := "renderParts", fn := fun _ => fun
  | [d1, d2] => { results := [.lit (.bool true)], args := [d1, d2] }
  | _ => none }
def renderPartsRow : OpenClaim := { program := "ytappdjhhaohejaa", sum := "ecff100903779bec7d04e87c9e63976c4145545109d76a4a9774e035dadc8f03", func := "flail/flaillaw19.RenderParts", spec := "renderParts", inPlace := ["internal/abi.NoEscape"], unfollowed := true, recurses := true, apart := false }
def RenderPartsSaid : Prop := renderPartsRow.holds Try.pinned (OpenSpec.ofChange renderPartsSpec)

/-- ITS FALSE NEIGHBOUR: 'it returns false'. Refute it at one input. -/
def renderPartsWrong : ChangeSpec := { name := "renderParts", fn := fun _ => fun
  | [d1, d2] => { results := [.lit (.bool false)], args := [d1, d2] }
  | _ => none }
def RenderPartsWrongFalsely : Prop := renderPartsRow.holds Try.pinned (OpenSpec.ofChange renderPartsWrong)

/-- 'flaillaw19.RenderLines': WHATEVER THE INPUT: true; the input reads as it did. -/
def renderLinesSpec : ChangeSpec := { name := "renderLines", fn := fun _ => fun
  | [d1, d2] => { results := [.lit (.bool true)], args := [d1, d2] }
  | _ => none }
def renderLinesRow : OpenClaim := { program := "ytappdjhhaohejaa", sum := "ecff100903779bec7d04e87c9e63976c4145545109d76a4a9774e035dadc8f03", func := "flail/flaillaw19.RenderLines", spec := "renderLines", inPlace := ["internal/abi.NoEscape"], unfollowed := true, recurses := true, apart := false }
def RenderLinesSaid : Prop := renderLinesRow.holds Try.pinned (OpenSpec.ofChange renderLinesSpec)

/-- ITS FALSE NEIGHBOUR: 'it returns false'. Refute it at one input. -/
def renderLinesWrong : ChangeSpec := { name := "renderLines", fn := fun _ => fun
  | [d1, d2] => { results := [.lit (.bool false)], args := [d1, d2] }
  | _ => none }
def RenderLinesWrongFalsely : Prop := renderLinesRow.holds Try.pinned (OpenSpec.ofChange renderLinesWrong)

/-- 'flaillaw19.RenderKeeps': WHATEVER THE INPUT: true; the input reads as it did. -/
def renderKeepsSpec : ChangeSpec := { name := "renderKeeps", fn := fun _ => fun
  | [d1, d2] => { results := [.lit (.bool true)], args := [d1, d2] }
  | _ => none }
def renderKeepsRow : OpenClaim := { program := "ytappdjhhaohejaa", sum := "ecff100903779bec7d04e87c9e63976c4145545109d76a4a9774e035dadc8f03", func := "flail/flaillaw19.RenderKeeps", spec := "renderKeeps", inPlace := ["internal/abi.NoEscape"], unfollowed := true, recurses := true, apart := false }
def RenderKeepsSaid : Prop := renderKeepsRow.holds Try.pinned (OpenSpec.ofChange renderKeepsSpec)

/-- ITS FALSE NEIGHBOUR: 'it returns false'. Refute it at one input. -/
def renderKeepsWrong : ChangeSpec := { name := "renderKeeps", fn := fun _ => fun
  | [d1, d2] => { results := [.lit (.bool false)], args := [d1, d2] }
  | _ => none }
def RenderKeepsWrongFalsely : Prop := renderKeepsRow.holds Try.pinned (OpenSpec.ofChange renderKeepsWrong)

/- THE SECOND FORM. 'bulk': how many values and letters a reading holds, each counted each time it is reached (what is shared counts as often as it is met; a slice's spare places count too). A statement '..UptoSaid' is the law's where the arguments, and the package variables that the reading takes, are together of bulk at most 1048576: NARROWER than '..Said'. Prove '..Said' where nothing that the law and all that it calls make is longer than what came in: it says more and counts as full. Else prove '..UptoSaid'. A law counts once. -/
mutual
def uptoBulk {H : Type} : DataW H → Nat
  | .lit (.string bytes) => bytes.length + 1
  | .lit _ => 1
  | .nil => 1
  | .ptr d => uptoBulk d + 1
  | .slice elems spare => uptoBulkAll elems + uptoBulkAll spare + 1
  | .agg parts => uptoBulkAll parts + 1
  | .iface _ d => uptoBulk d + 1
  | .map entries => uptoBulkEntries entries + 1
  | .held _ => 1
def uptoBulkAll {H : Type} : List (DataW H) → Nat
  | [] => 0
  | d :: r => uptoBulk d + uptoBulkAll r
def uptoBulkEntries {H : Type} : List (Lit × DataW H) → Nat
  | [] => 0
  | x :: r => uptoBulkEntry x + uptoBulkEntries r
def uptoBulkEntry {H : Type} : Lit × DataW H → Nat
  | (.string bytes, d) => bytes.length + uptoBulk d + 1
  | (_, d) => uptoBulk d + 1
 end
def uptoSmall : (H : Type) → List (DataW H) → Bool := fun _ ds => decide (uptoBulkAll ds ≤ 1048576)
def OpenSpec.upto (s : _root_.Go.ChangeSpec) : _root_.Go.OpenSpec := { _root_.Go.OpenSpec.ofChange s with cond := some uptoSmall }

/-- 'flaillaw19.RenderTells', WHERE WHAT IT READS IS OF BULK AT MOST 1048576: true; the input reads as it did. -/
def renderTellsUptoRow : OpenClaim := { program := "ytappdjhhaohejaa", sum := "ecff100903779bec7d04e87c9e63976c4145545109d76a4a9774e035dadc8f03", func := "flail/flaillaw19.RenderTells", spec := "renderTells", inPlace := ["internal/abi.NoEscape"], unfollowed := true, recurses := true, apart := false, narrowed := true }
def RenderTellsUptoSaid : Prop := renderTellsUptoRow.holds Try.pinned (OpenSpec.upto renderTellsSpec)

/-- 'flaillaw19.RenderEdges', WHERE WHAT IT READS IS OF BULK AT MOST 1048576: true; the input reads as it did. -/
def renderEdgesUptoRow : OpenClaim := { program := "ytappdjhhaohejaa", sum := "ecff100903779bec7d04e87c9e63976c4145545109d76a4a9774e035dadc8f03", func := "flail/flaillaw19.RenderEdges", spec := "renderEdges", inPlace := ["internal/abi.NoEscape"], unfollowed := true, recurses := true, apart := false, narrowed := true }
def RenderEdgesUptoSaid : Prop := renderEdgesUptoRow.holds Try.pinned (OpenSpec.upto renderEdgesSpec)

/-- 'flaillaw19.RenderHides', WHERE WHAT IT READS IS OF BULK AT MOST 1048576: true; the input reads as it did. -/
def renderHidesUptoRow : OpenClaim := { program := "ytappdjhhaohejaa", sum := "ecff100903779bec7d04e87c9e63976c4145545109d76a4a9774e035dadc8f03", func := "flail/flaillaw19.RenderHides", spec := "renderHides", inPlace := ["internal/abi.NoEscape"], unfollowed := true, recurses := true, apart := false, narrowed := true }
def RenderHidesUptoSaid : Prop := renderHidesUptoRow.holds Try.pinned (OpenSpec.upto renderHidesSpec)

/-- 'flaillaw19.RenderParts', WHERE WHAT IT READS IS OF BULK AT MOST 1048576: true; the input reads as it did. -/
def renderPartsUptoRow : OpenClaim := { program := "ytappdjhhaohejaa", sum := "ecff100903779bec7d04e87c9e63976c4145545109d76a4a9774e035dadc8f03", func := "flail/flaillaw19.RenderParts", spec := "renderParts", inPlace := ["internal/abi.NoEscape"], unfollowed := true, recurses := true, apart := false, narrowed := true }
def RenderPartsUptoSaid : Prop := renderPartsUptoRow.holds Try.pinned (OpenSpec.upto renderPartsSpec)

/-- 'flaillaw19.RenderLines', WHERE WHAT IT READS IS OF BULK AT MOST 1048576: true; the input reads as it did. -/
def renderLinesUptoRow : OpenClaim := { program := "ytappdjhhaohejaa", sum := "ecff100903779bec7d04e87c9e63976c4145545109d76a4a9774e035dadc8f03", func := "flail/flaillaw19.RenderLines", spec := "renderLines", inPlace := ["internal/abi.NoEscape"], unfollowed := true, recurses := true, apart := false, narrowed := true }
def RenderLinesUptoSaid : Prop := renderLinesUptoRow.holds Try.pinned (OpenSpec.upto renderLinesSpec)

/-- 'flaillaw19.RenderKeeps', WHERE WHAT IT READS IS OF BULK AT MOST 1048576: true; the input reads as it did. -/
def renderKeepsUptoRow : OpenClaim := { program := "ytappdjhhaohejaa", sum := "ecff100903779bec7d04e87c9e63976c4145545109d76a4a9774e035dadc8f03", func := "flail/flaillaw19.RenderKeeps", spec := "renderKeeps", inPlace := ["internal/abi.NoEscape"], unfollowed := true, recurses := true, apart := false, narrowed := true }
def RenderKeepsUptoSaid : Prop := renderKeepsUptoRow.holds Try.pinned (OpenSpec.upto renderKeepsSpec)

end Rows
end Go.Proofs.Ytappdjhhaohejaa
