/-
  No cell of these rows narrows 'for every input' (looked for: loops, veiled, ifaces, maps, wideKeys, modest, calm, conditions, laid).
  DERIVED. THE GIVEN ROWS OF THIS SEAT. 6 by the template 'for every input the law returns true; each argument reads behind the call as it read before'; 0 by the template 'total and deterministic' (their statements: YtddikahfenjnaaaTotals.lean).
  GIVEN WITH THE SEED: the statements are not yours to turn. If you find one false, say at which input.
  Laid BY PROGRAM, IN A SANDBOX (cutbox-rows.mjs): the forced cells as the released guide's own fill.sh prints them over the translation 248cfee0172c2dfc… (all of the seat's roots in one cut). By AI agents, Wed Nov 11 2026. No macro, syntax, notation, axiom, sorry.
-/
import Derived.Test.YtddikahfenjnaaaChecked
import GoSem.Claim
import GoSem.ClaimJoined
import GoSem.ClaimMapViews
import Derived.JoinedTies
import Derived.KernelRfl
namespace Go.Proofs.Ytddikahfenjnaaa
/- THE CELL 'sum', in the pinned program and in every row, IS THE sha256 OF THE DUMP (.gsa) THAT YtddikahfenjnaaaProg.lean LOADS. Nothing in Lean hashes anything: it is a label: what it is worth is what the hold of that sum in a sandbox is worth. -/
noncomputable def Try.pinned : Pinned := { name := "ytddikahfenjnaaa", sum := "248cfee0172c2dfc35fe7345c8fc95901e51d01ada01131c7f159fcc19503562", checked := Try.checked }
namespace Rows
def none {H : Type} : Left H := { results := [], args := [] }

/-- 'flaillaw18.FlowTells': WHATEVER THE INPUT: true; the input reads as it did. -/
def flowTellsSpec : ChangeSpec := { name := "flowTells", fn := fun _ => fun
  | [d] => { results := [.lit (.bool true)], args := [d] }
  | _ => none }
def flowTellsRow : OpenClaim := { program := "ytddikahfenjnaaa", sum := "248cfee0172c2dfc35fe7345c8fc95901e51d01ada01131c7f159fcc19503562", func := "flail/flaillaw18.FlowTells", spec := "flowTells", inPlace := ["internal/abi.NoEscape"], unfollowed := true, recurses := true, apart := false }
def FlowTellsSaid : Prop := flowTellsRow.holds Try.pinned (OpenSpec.ofChange flowTellsSpec)

/-- ITS FALSE NEIGHBOUR: 'it returns false'. Refute it at one input. -/
def flowTellsWrong : ChangeSpec := { name := "flowTells", fn := fun _ => fun
  | [d] => { results := [.lit (.bool false)], args := [d] }
  | _ => none }
def FlowTellsWrongFalsely : Prop := flowTellsRow.holds Try.pinned (OpenSpec.ofChange flowTellsWrong)

/-- 'flaillaw18.FlowEdges': WHATEVER THE INPUT: true; the input reads as it did. -/
def flowEdgesSpec : ChangeSpec := { name := "flowEdges", fn := fun _ => fun
  | [d] => { results := [.lit (.bool true)], args := [d] }
  | _ => none }
def flowEdgesRow : OpenClaim := { program := "ytddikahfenjnaaa", sum := "248cfee0172c2dfc35fe7345c8fc95901e51d01ada01131c7f159fcc19503562", func := "flail/flaillaw18.FlowEdges", spec := "flowEdges", inPlace := ["internal/abi.NoEscape"], unfollowed := true, recurses := true, apart := false }
def FlowEdgesSaid : Prop := flowEdgesRow.holds Try.pinned (OpenSpec.ofChange flowEdgesSpec)

/-- ITS FALSE NEIGHBOUR: 'it returns false'. Refute it at one input. -/
def flowEdgesWrong : ChangeSpec := { name := "flowEdges", fn := fun _ => fun
  | [d] => { results := [.lit (.bool false)], args := [d] }
  | _ => none }
def FlowEdgesWrongFalsely : Prop := flowEdgesRow.holds Try.pinned (OpenSpec.ofChange flowEdgesWrong)

/-- 'flaillaw18.FlowWords': WHATEVER THE INPUT: true; the input reads as it did. -/
def flowWordsSpec : ChangeSpec := { name := "flowWords", fn := fun _ => fun
  | [d] => { results := [.lit (.bool true)], args := [d] }
  | _ => none }
def flowWordsRow : OpenClaim := { program := "ytddikahfenjnaaa", sum := "248cfee0172c2dfc35fe7345c8fc95901e51d01ada01131c7f159fcc19503562", func := "flail/flaillaw18.FlowWords", spec := "flowWords", inPlace := ["internal/abi.NoEscape"], unfollowed := true, recurses := true, apart := false }
def FlowWordsSaid : Prop := flowWordsRow.holds Try.pinned (OpenSpec.ofChange flowWordsSpec)

/-- ITS FALSE NEIGHBOUR: 'it returns false'. Refute it at one input. -/
def flowWordsWrong : ChangeSpec := { name := "flowWords", fn := fun _ => fun
  | [d] => { results := [.lit (.bool false)], args := [d] }
  | _ => none }
def FlowWordsWrongFalsely : Prop := flowWordsRow.holds Try.pinned (OpenSpec.ofChange flowWordsWrong)

/-- 'flaillaw18.FlowOnce': WHATEVER THE INPUT: true; the input reads as it did. -/
def flowOnceSpec : ChangeSpec := { name := "flowOnce", fn := fun _ => fun
  | [d] => { results := [.lit (.bool true)], args := [d] }
  | _ => none }
def flowOnceRow : OpenClaim := { program := "ytddikahfenjnaaa", sum := "248cfee0172c2dfc35fe7345c8fc95901e51d01ada01131c7f159fcc19503562", func := "flail/flaillaw18.FlowOnce", spec := "flowOnce", inPlace := ["internal/abi.NoEscape"], unfollowed := true, recurses := true, apart := false }
def FlowOnceSaid : Prop := flowOnceRow.holds Try.pinned (OpenSpec.ofChange flowOnceSpec)

/-- ITS FALSE NEIGHBOUR: 'it returns false'. Refute it at one input. -/
def flowOnceWrong : ChangeSpec := { name := "flowOnce", fn := fun _ => fun
  | [d] => { results := [.lit (.bool false)], args := [d] }
  | _ => none }
def FlowOnceWrongFalsely : Prop := flowOnceRow.holds Try.pinned (OpenSpec.ofChange flowOnceWrong)

/-- 'flaillaw18.FlowLines': WHATEVER THE INPUT: true; the input reads as it did. -/
def flowLinesSpec : ChangeSpec := { name := "flowLines", fn := fun _ => fun
  | [d1, d2, d3] => { results := [.lit (.bool true)], args := [d1, d2, d3] }
  | _ => none }
def flowLinesRow : OpenClaim := { program := "ytddikahfenjnaaa", sum := "248cfee0172c2dfc35fe7345c8fc95901e51d01ada01131c7f159fcc19503562", func := "flail/flaillaw18.FlowLines", spec := "flowLines", inPlace := ["internal/abi.NoEscape"], unfollowed := true, recurses := true, apart := false }
def FlowLinesSaid : Prop := flowLinesRow.holds Try.pinned (OpenSpec.ofChange flowLinesSpec)

/-- ITS FALSE NEIGHBOUR: 'it returns false'. Refute it at one input. -/
def flowLinesWrong : ChangeSpec := { name := "flowLines", fn := fun _ => fun
  | [d1, d2, d3] => { results := [.lit (.bool false)], args := [d1, d2, d3] }
  | _ => none }
def FlowLinesWrongFalsely : Prop := flowLinesRow.holds Try.pinned (OpenSpec.ofChange flowLinesWrong)

/-- 'flaillaw18.FlowParts': WHATEVER THE INPUT: true; the input reads as it did. -/
def flowPartsSpec : ChangeSpec := { name := "flowParts", fn := fun _ => fun
  | [d1, d2, d3, d4] => { results := [.lit (.bool true)], args := [d1, d2, d3, d4] }
  | _ => none }
def flowPartsRow : OpenClaim := { program := "ytddikahfenjnaaa", sum := "248cfee0172c2dfc35fe7345c8fc95901e51d01ada01131c7f159fcc19503562", func := "flail/flaillaw18.FlowParts", spec := "flowParts", inPlace := ["internal/abi.NoEscape"], unfollowed := true, recurses := true, apart := false }
def FlowPartsSaid : Prop := flowPartsRow.holds Try.pinned (OpenSpec.ofChange flowPartsSpec)

/-- ITS FALSE NEIGHBOUR: 'it returns false'. Refute it at one input. -/
def flowPartsWrong : ChangeSpec := { name := "flowParts", fn := fun _ => fun
  | [d1, d2, d3, d4] => { results := [.lit (.bool false)], args := [d1, d2, d3, d4] }
  | _ => none }
def FlowPartsWrongFalsely : Prop := flowPartsRow.holds Try.pinned (OpenSpec.ofChange flowPartsWrong)

/- THE SECOND FORM. 'bulk': how many values and letters a reading holds, each counted each time it is reached (what is shared counts as often as it is met; a slice's spare places count too). A statement '..UptoSaid' is the law's where the arguments, and the package variables that the reading takes, are together of bulk at most 1048576: NARROWER than '..Said'. Prove '..Said' where nothing that the law and all that it calls make is longer than what came in: it says more and counts as full. Else prove '..UptoSaid'. A law counts once. -/
mutual
def uptoBulk {H : Type} : DataW H → Nat
  | .lit (.string bytes) => bytes.length + 1
  | .lit _ => 1
  | .nil => 1
  | .ptr d => uptoBulk d + 1
  | .slice elems spare => uptoBulkAll elems + uptoBulkAll spare + 1
  | .agg parts => uptoBulkAll parts + 1
  | .iface _ d => uptoBulk d + 1
  | .map entries => uptoBulkEntries entries + 1
  | .held _ => 1
def uptoBulkAll {H : Type} : List (DataW H) → Nat
  | [] => 0
  | d :: r => uptoBulk d + uptoBulkAll r
def uptoBulkEntries {H : Type} : List (Lit × DataW H) → Nat
  | [] => 0
  | x :: r => uptoBulkEntry x + uptoBulkEntries r
def uptoBulkEntry {H : Type} : Lit × DataW H → Nat
  | (.string bytes, d) => bytes.length + uptoBulk d + 1
  | (_, d) => uptoBulk d + 1
 end
def uptoSmall : (H : Type) → List (DataW H) → Bool := fun _ ds => decide (uptoBulkAll ds ≤ 1048576)
def OpenSpec.upto (s : _root_.Go.ChangeSpec) : _root_.Go.OpenSpec := { _root_.Go.OpenSpec.ofChange s with cond := some uptoSmall }

/-- 'flaillaw18.FlowTells', WHERE WHAT IT READS IS OF BULK AT MOST 1048576: true; the input reads as it did. -/
def flowTellsUptoRow : OpenClaim := { program := "ytddikahfenjnaaa", sum := "248cfee0172c2dfc35fe7345c8fc95901e51d01ada01131c7f159fcc19503562", func := "flail/flaillaw18.FlowTells", spec := "flowTells", inPlace := ["internal/abi.NoEscape"], unfollowed := true, recurses := true, apart := false, narrowed := true }
def FlowTellsUptoSaid : Prop := flowTellsUptoRow.holds Try.pinned (OpenSpec.upto flowTellsSpec)

/-- 'flaillaw18.FlowEdges', WHERE WHAT IT READS IS OF BULK AT MOST 1048576: true; the input reads as it did. -/
def flowEdgesUptoRow : OpenClaim := { program := "ytddikahfenjnaaa", sum := "248cfee0172c2dfc35fe7345c8fc95901e51d01ada01131c7f159fcc19503562", func := "flail/flaillaw18.FlowEdges", spec := "flowEdges", inPlace := ["internal/abi.NoEscape"], unfollowed := true, recurses := true, apart := false, narrowed := true }
def FlowEdgesUptoSaid : Prop := flowEdgesUptoRow.holds Try.pinned (OpenSpec.upto flowEdgesSpec)

/-- 'flaillaw18.FlowWords', WHERE WHAT IT READS IS OF BULK AT MOST 1048576: true; the input reads as it did. -/
def flowWordsUptoRow : OpenClaim := { program := "ytddikahfenjnaaa", sum := "248cfee0172c2dfc35fe7345c8fc95901e51d01ada01131c7f159fcc19503562", func := "flail/flaillaw18.FlowWords", spec := "flowWords", inPlace := ["internal/abi.NoEscape"], unfollowed := true, recurses := true, apart := false, narrowed := true }
def FlowWordsUptoSaid : Prop := flowWordsUptoRow.holds Try.pinned (OpenSpec.upto flowWordsSpec)

/-- 'flaillaw18.FlowOnce', WHERE WHAT IT READS IS OF BULK AT MOST 1048576: true; the input reads as it did. -/
def flowOnceUptoRow : OpenClaim := { program := "ytddikahfenjnaaa", sum := "248cfee0172c2dfc35fe7345c8fc95901e51d01ada01131c7f159fcc19503562", func := "flail/flaillaw18.FlowOnce", spec := "flowOnce", inPlace := ["internal/abi.NoEscape"], unfollowed := true, recurses := true, apart := false, narrowed := true }
def FlowOnceUptoSaid : Prop := flowOnceUptoRow.holds Try.pinned (OpenSpec.upto flowOnceSpec)

/-- 'flaillaw18.FlowLines', WHERE WHAT IT READS IS OF BULK AT MOST 1048576: true; the input reads as it did. -/
def flowLinesUptoRow : OpenClaim := { program := "ytddikahfenjnaaa", sum := "248cfee0172c2dfc35fe7345c8fc95901e51d01ada01131c7f159fcc19503562", func := "flail/flaillaw18.FlowLines", spec := "flowLines", inPlace := ["internal/abi.NoEscape"], unfollowed := true, recurses := true, apart := false, narrowed := true }
def FlowLinesUptoSaid : Prop := flowLinesUptoRow.holds Try.pinned (OpenSpec.upto flowLinesSpec)

/-- 'flaillaw18.FlowParts', WHERE WHAT IT READS IS OF BULK AT MOST 1048576: true; the input reads as it did. -/
def flowPartsUptoRow : OpenClaim := { program := "ytddikahfenjnaaa", sum := "248cfee0172c2dfc35fe7345c8fc95901e51d01ada01131c7f159fcc19503562", func := "flail/flaillaw18.FlowParts", spec := "flowParts", inPlace := ["internal/abi.NoEscape"], unfollowed := true, recurses := true, apart := false, narrowed := true }
def FlowPartsUptoSaid : Prop := flowPartsUptoRow.holds Try.pinned (OpenSpec.upto flowPartsSpec)

end Rows
end Go.Proofs.Ytddikahfenjnaaa
