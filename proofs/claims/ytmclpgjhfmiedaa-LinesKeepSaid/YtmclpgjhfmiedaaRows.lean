/-
  No cell of these rows narrows 'for every input' (looked for: loops, veiled, ifaces, maps, wideKeys, modest, calm, conditions, laid).
  DERIVED. THE GIVEN ROWS OF THIS SEAT. 5 by the template 'for every input the law returns true; each argument reads behind the call as it read before'; 0 by the template 'total and deterministic' (their statements: YtmclpgjhfmiedaaTotals.lean).
  GIVEN WITH THE SEED: the statements are not yours to turn. If you find one false, say at which input.
  Laid BY PROGRAM, IN A SANDBOX (cutbox-rows.mjs): the forced cells as the released guide's own fill.sh prints them over the translation 93c798cb63717575… (all of the seat's roots in one cut). By AI agents, Wed Nov 11 2026. No macro, syntax, notation, axiom, sorry.
-/
import Derived.Test.YtmclpgjhfmiedaaChecked
import GoSem.Claim
import GoSem.ClaimJoined
import GoSem.ClaimMapViews
import Derived.JoinedTies
import Derived.KernelRfl
namespace Go.Proofs.Ytmclpgjhfmiedaa
/- THE CELL 'sum', in the pinned program and in every row, IS THE sha256 OF THE DUMP (.gsa) THAT YtmclpgjhfmiedaaProg.lean LOADS. Nothing in Lean hashes anything: it is a label: what it is worth is what the hold of that sum in a sandbox is worth. -/
noncomputable def Try.pinned : Pinned := { name := "ytmclpgjhfmiedaa", sum := "93c798cb63717575c3fd48577aa09b2e890799763ad840caa52fe8bc89981d88", checked := Try.checked }
namespace Rows
def none {H : Type} : Left H := { results := [], args := [] }

/-- 'flaillaw02.LinesTells': WHATEVER THE INPUT: true; the input reads as it did. -/
def linesTellsSpec : ChangeSpec := { name := "linesTells", fn := fun _ => fun
  | [d] => { results := [.lit (.bool true)], args := [d] }
  | _ => none }
def linesTellsRow : OpenClaim := { program := "ytmclpgjhfmiedaa", sum := "93c798cb63717575c3fd48577aa09b2e890799763ad840caa52fe8bc89981d88", func := "flail/flaillaw02.LinesTells", spec := "linesTells", inPlace := ["internal/abi.NoEscape", "internal/bytealg.MakeNoZero"], apart := false }
def LinesTellsSaid : Prop := linesTellsRow.holds Try.pinned (OpenSpec.ofChange linesTellsSpec)

/-- ITS FALSE NEIGHBOUR: 'it returns false'. Refute it at one input. -/
def linesTellsWrong : ChangeSpec := { name := "linesTells", fn := fun _ => fun
  | [d] => { results := [.lit (.bool false)], args := [d] }
  | _ => none }
def LinesTellsWrongFalsely : Prop := linesTellsRow.holds Try.pinned (OpenSpec.ofChange linesTellsWrong)

/-- 'flaillaw02.LinesOnce': WHATEVER THE INPUT: true; the input reads as it did. -/
def linesOnceSpec : ChangeSpec := { name := "linesOnce", fn := fun _ => fun
  | [d] => { results := [.lit (.bool true)], args := [d] }
  | _ => none }
def linesOnceRow : OpenClaim := { program := "ytmclpgjhfmiedaa", sum := "93c798cb63717575c3fd48577aa09b2e890799763ad840caa52fe8bc89981d88", func := "flail/flaillaw02.LinesOnce", spec := "linesOnce", inPlace := ["internal/abi.NoEscape", "internal/bytealg.MakeNoZero"], apart := false }
def LinesOnceSaid : Prop := linesOnceRow.holds Try.pinned (OpenSpec.ofChange linesOnceSpec)

/-- ITS FALSE NEIGHBOUR: 'it returns false'. Refute it at one input. -/
def linesOnceWrong : ChangeSpec := { name := "linesOnce", fn := fun _ => fun
  | [d] => { results := [.lit (.bool false)], args := [d] }
  | _ => none }
def LinesOnceWrongFalsely : Prop := linesOnceRow.holds Try.pinned (OpenSpec.ofChange linesOnceWrong)

/-- 'flaillaw02.LinesJoins': WHATEVER THE INPUT: true; the input reads as it did. -/
def linesJoinsSpec : ChangeSpec := { name := "linesJoins", fn := fun _ => fun
  | [d1, d2] => { results := [.lit (.bool true)], args := [d1, d2] }
  | _ => none }
def linesJoinsRow : OpenClaim := { program := "ytmclpgjhfmiedaa", sum := "93c798cb63717575c3fd48577aa09b2e890799763ad840caa52fe8bc89981d88", func := "flail/flaillaw02.LinesJoins", spec := "linesJoins", inPlace := ["internal/abi.NoEscape", "internal/bytealg.MakeNoZero"], apart := false }
def LinesJoinsSaid : Prop := linesJoinsRow.holds Try.pinned (OpenSpec.ofChange linesJoinsSpec)

/-- ITS FALSE NEIGHBOUR: 'it returns false'. Refute it at one input. -/
def linesJoinsWrong : ChangeSpec := { name := "linesJoins", fn := fun _ => fun
  | [d1, d2] => { results := [.lit (.bool false)], args := [d1, d2] }
  | _ => none }
def LinesJoinsWrongFalsely : Prop := linesJoinsRow.holds Try.pinned (OpenSpec.ofChange linesJoinsWrong)

/-- 'flaillaw02.LinesCounts': WHATEVER THE INPUT: true; the input reads as it did. -/
def linesCountsSpec : ChangeSpec := { name := "linesCounts", fn := fun _ => fun
  | [d] => { results := [.lit (.bool true)], args := [d] }
  | _ => none }
def linesCountsRow : OpenClaim := { program := "ytmclpgjhfmiedaa", sum := "93c798cb63717575c3fd48577aa09b2e890799763ad840caa52fe8bc89981d88", func := "flail/flaillaw02.LinesCounts", spec := "linesCounts", inPlace := ["internal/abi.NoEscape", "internal/bytealg.MakeNoZero"], apart := false }
def LinesCountsSaid : Prop := linesCountsRow.holds Try.pinned (OpenSpec.ofChange linesCountsSpec)

/-- ITS FALSE NEIGHBOUR: 'it returns false'. Refute it at one input. -/
def linesCountsWrong : ChangeSpec := { name := "linesCounts", fn := fun _ => fun
  | [d] => { results := [.lit (.bool false)], args := [d] }
  | _ => none }
def LinesCountsWrongFalsely : Prop := linesCountsRow.holds Try.pinned (OpenSpec.ofChange linesCountsWrong)

/-- 'flaillaw02.LinesKeep': WHATEVER THE INPUT: true; the input reads as it did. -/
def linesKeepSpec : ChangeSpec := { name := "linesKeep", fn := fun _ => fun
  | [d] => { results := [.lit (.bool true)], args := [d] }
  | _ => none }
def linesKeepRow : OpenClaim := { program := "ytmclpgjhfmiedaa", sum := "93c798cb63717575c3fd48577aa09b2e890799763ad840caa52fe8bc89981d88", func := "flail/flaillaw02.LinesKeep", spec := "linesKeep", inPlace := ["internal/abi.NoEscape", "internal/bytealg.MakeNoZero"], apart := false }
def LinesKeepSaid : Prop := linesKeepRow.holds Try.pinned (OpenSpec.ofChange linesKeepSpec)

/-- ITS FALSE NEIGHBOUR: 'it returns false'. Refute it at one input. -/
def linesKeepWrong : ChangeSpec := { name := "linesKeep", fn := fun _ => fun
  | [d] => { results := [.lit (.bool false)], args := [d] }
  | _ => none }
def LinesKeepWrongFalsely : Prop := linesKeepRow.holds Try.pinned (OpenSpec.ofChange linesKeepWrong)

/- THE SECOND FORM. 'bulk': how many values and letters a reading holds, each counted each time it is reached (what is shared counts as often as it is met; a slice's spare places count too). A statement '..UptoSaid' is the law's where the arguments, and the package variables that the reading takes, are together of bulk at most 1048576: NARROWER than '..Said'. Prove '..Said' where nothing that the law and all that it calls make is longer than what came in: it says more and counts as full. Else prove '..UptoSaid'. A law counts once. -/
mutual
def uptoBulk {H : Type} : DataW H → Nat
  | .lit (.string bytes) => bytes.length + 1
  | .lit _ => 1
  | .nil => 1
  | .ptr d => uptoBulk d + 1
  | .slice elems spare => uptoBulkAll elems + uptoBulkAll spare + 1
  | .agg parts => uptoBulkAll parts + 1
  | .iface _ d => uptoBulk d + 1
  | .map entries => uptoBulkEntries entries + 1
  | .held _ => 1
def uptoBulkAll {H : Type} : List (DataW H) → Nat
  | [] => 0
  | d :: r => uptoBulk d + uptoBulkAll r
def uptoBulkEntries {H : Type} : List (Lit × DataW H) → Nat
  | [] => 0
  | x :: r => uptoBulkEntry x + uptoBulkEntries r
def uptoBulkEntry {H : Type} : Lit × DataW H → Nat
  | (.string bytes, d) => bytes.length + uptoBulk d + 1
  | (_, d) => uptoBulk d + 1
 end
def uptoSmall : (H : Type) → List (DataW H) → Bool := fun _ ds => decide (uptoBulkAll ds ≤ 1048576)
def OpenSpec.upto (s : _root_.Go.ChangeSpec) : _root_.Go.OpenSpec := { _root_.Go.OpenSpec.ofChange s with cond := some uptoSmall }

/-- 'flaillaw02.LinesTells', WHERE WHAT IT READS IS OF BULK AT MOST 1048576: true; the input reads as it did. -/
def linesTellsUptoRow : OpenClaim := { program := "ytmclpgjhfmiedaa", sum := "93c798cb63717575c3fd48577aa09b2e890799763ad840caa52fe8bc89981d88", func := "flail/flaillaw02.LinesTells", spec := "linesTells", inPlace := ["internal/abi.NoEscape", "internal/bytealg.MakeNoZero"], apart := false, narrowed := true }
def LinesTellsUptoSaid : Prop := linesTellsUptoRow.holds Try.pinned (OpenSpec.upto linesTellsSpec)

/-- 'flaillaw02.LinesOnce', WHERE WHAT IT READS IS OF BULK AT MOST 1048576: true; the input reads as it did. -/
def linesOnceUptoRow : OpenClaim := { program := "ytmclpgjhfmiedaa", sum := "93c798cb63717575c3fd48577aa09b2e890799763ad840caa52fe8bc89981d88", func := "flail/flaillaw02.LinesOnce", spec := "linesOnce", inPlace := ["internal/abi.NoEscape", "internal/bytealg.MakeNoZero"], apart := false, narrowed := true }
def LinesOnceUptoSaid : Prop := linesOnceUptoRow.holds Try.pinned (OpenSpec.upto linesOnceSpec)

/-- 'flaillaw02.LinesJoins', WHERE WHAT IT READS IS OF BULK AT MOST 1048576: true; the input reads as it did. -/
def linesJoinsUptoRow : OpenClaim := { program := "ytmclpgjhfmiedaa", sum := "93c798cb63717575c3fd48577aa09b2e890799763ad840caa52fe8bc89981d88", func := "flail/flaillaw02.LinesJoins", spec := "linesJoins", inPlace := ["internal/abi.NoEscape", "internal/bytealg.MakeNoZero"], apart := false, narrowed := true }
def LinesJoinsUptoSaid : Prop := linesJoinsUptoRow.holds Try.pinned (OpenSpec.upto linesJoinsSpec)

/-- 'flaillaw02.LinesCounts', WHERE WHAT IT READS IS OF BULK AT MOST 1048576: true; the input reads as it did. -/
def linesCountsUptoRow : OpenClaim := { program := "ytmclpgjhfmiedaa", sum := "93c798cb63717575c3fd48577aa09b2e890799763ad840caa52fe8bc89981d88", func := "flail/flaillaw02.LinesCounts", spec := "linesCounts", inPlace := ["internal/abi.NoEscape", "internal/bytealg.MakeNoZero"], apart := false, narrowed := true }
def LinesCountsUptoSaid : Prop := linesCountsUptoRow.holds Try.pinned (OpenSpec.upto linesCountsSpec)

/-- 'flaillaw02.LinesKeep', WHERE WHAT IT READS IS OF BULK AT MOST 1048576: true; the input reads as it did. -/
def linesKeepUptoRow : OpenClaim := { program := "ytmclpgjhfmiedaa", sum := "93c798cb63717575c3fd48577aa09b2e890799763ad840caa52fe8bc89981d88", func := "flail/flaillaw02.LinesKeep", spec := "linesKeep", inPlace := ["internal/abi.NoEscape", "internal/bytealg.MakeNoZero"], apart := false, narrowed := true }
def LinesKeepUptoSaid : Prop := linesKeepUptoRow.holds Try.pinned (OpenSpec.upto linesKeepSpec)

end Rows
end Go.Proofs.Ytmclpgjhfmiedaa
