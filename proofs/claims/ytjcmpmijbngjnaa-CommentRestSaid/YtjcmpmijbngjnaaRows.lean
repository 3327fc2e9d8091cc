/-
  No cell of these rows narrows 'for every input' (looked for: loops, veiled, ifaces, maps, wideKeys, modest, calm, conditions, laid).
  DERIVED. THE GIVEN ROWS OF THIS SEAT. 5 by the template 'for every input the law returns true; each argument reads behind the call as it read before'; 0 by the template 'total and deterministic' (their statements: YtjcmpmijbngjnaaTotals.lean).
  GIVEN WITH THE SEED: the statements are not yours to turn. If you find one false, say at which input.
  Laid BY PROGRAM, IN A SANDBOX (cutbox-rows.mjs): the forced cells as the released guide's own fill.sh prints them over the translation ef225fd8665bc963… (all of the seat's roots in one cut). By AI agents, Wed Nov 11 2026. No macro, syntax, notation, axiom, sorry.
-/
import Derived.Test.YtjcmpmijbngjnaaChecked
import GoSem.Claim
import GoSem.ClaimJoined
import GoSem.ClaimMapViews
import Derived.JoinedTies
import Derived.KernelRfl
namespace Go.Proofs.Ytjcmpmijbngjnaa
/- THE CELL 'sum', in the pinned program and in every row, IS THE sha256 OF THE DUMP (.gsa) THAT YtjcmpmijbngjnaaProg.lean LOADS. Nothing in Lean hashes anything: it is a label: what it is worth is what the hold of that sum in a sandbox is worth. -/
noncomputable def Try.pinned : Pinned := { name := "ytjcmpmijbngjnaa", sum := "ef225fd8665bc963a96f2c92421291084f1bb472ff7e4c81a690ad7d6d1647f6", checked := Try.checked }
namespace Rows
def none {H : Type} : Left H := { results := [], args := [] }

/-- 'flaillaw10.CommentReads': WHATEVER THE INPUT: true; the input reads as it did. -/
def commentReadsSpec : ChangeSpec := { name := "commentReads", fn := fun _ => fun
  | [d1, d2] => { results := [.lit (.bool true)], args := [d1, d2] }
  | _ => none }
def commentReadsRow : OpenClaim := { program := "ytjcmpmijbngjnaa", sum := "ef225fd8665bc963a96f2c92421291084f1bb472ff7e4c81a690ad7d6d1647f6", func := "flail/flaillaw10.CommentReads", spec := "commentReads", inPlace := ["internal/bytealg.IndexByteString", "internal/abi.NoEscape", "internal/bytealg.MakeNoZero"], unfollowed := true, recurses := true, apart := false }
def CommentReadsSaid : Prop := commentReadsRow.holds Try.pinned (OpenSpec.ofChange commentReadsSpec)

/-- ITS FALSE NEIGHBOUR: 'it returns false'. Refute it at one input. -/
def commentReadsWrong : ChangeSpec := { name := "commentReads", fn := fun _ => fun
  | [d1, d2] => { results := [.lit (.bool false)], args := [d1, d2] }
  | _ => none }
def CommentReadsWrongFalsely : Prop := commentReadsRow.holds Try.pinned (OpenSpec.ofChange commentReadsWrong)

/-- 'flaillaw10.CommentEnds': WHATEVER THE INPUT: true; the input reads as it did. -/
def commentEndsSpec : ChangeSpec := { name := "commentEnds", fn := fun _ => fun
  | [d1, d2, d3] => { results := [.lit (.bool true)], args := [d1, d2, d3] }
  | _ => none }
def commentEndsRow : OpenClaim := { program := "ytjcmpmijbngjnaa", sum := "ef225fd8665bc963a96f2c92421291084f1bb472ff7e4c81a690ad7d6d1647f6", func := "flail/flaillaw10.CommentEnds", spec := "commentEnds", inPlace := ["internal/bytealg.IndexByteString", "internal/abi.NoEscape", "internal/bytealg.MakeNoZero"], unfollowed := true, recurses := true, apart := false }
def CommentEndsSaid : Prop := commentEndsRow.holds Try.pinned (OpenSpec.ofChange commentEndsSpec)

/-- ITS FALSE NEIGHBOUR: 'it returns false'. Refute it at one input. -/
def commentEndsWrong : ChangeSpec := { name := "commentEnds", fn := fun _ => fun
  | [d1, d2, d3] => { results := [.lit (.bool false)], args := [d1, d2, d3] }
  | _ => none }
def CommentEndsWrongFalsely : Prop := commentEndsRow.holds Try.pinned (OpenSpec.ofChange commentEndsWrong)

/-- 'flaillaw10.CommentBogus': WHATEVER THE INPUT: true; the input reads as it did. -/
def commentBogusSpec : ChangeSpec := { name := "commentBogus", fn := fun _ => fun
  | [d1, d2] => { results := [.lit (.bool true)], args := [d1, d2] }
  | _ => none }
def commentBogusRow : OpenClaim := { program := "ytjcmpmijbngjnaa", sum := "ef225fd8665bc963a96f2c92421291084f1bb472ff7e4c81a690ad7d6d1647f6", func := "flail/flaillaw10.CommentBogus", spec := "commentBogus", inPlace := ["internal/bytealg.IndexByteString", "internal/abi.NoEscape", "internal/bytealg.MakeNoZero"], unfollowed := true, recurses := true, apart := false }
def CommentBogusSaid : Prop := commentBogusRow.holds Try.pinned (OpenSpec.ofChange commentBogusSpec)

/-- ITS FALSE NEIGHBOUR: 'it returns false'. Refute it at one input. -/
def commentBogusWrong : ChangeSpec := { name := "commentBogus", fn := fun _ => fun
  | [d1, d2] => { results := [.lit (.bool false)], args := [d1, d2] }
  | _ => none }
def CommentBogusWrongFalsely : Prop := commentBogusRow.holds Try.pinned (OpenSpec.ofChange commentBogusWrong)

/-- 'flaillaw10.CommentRest': WHATEVER THE INPUT: true; the input reads as it did. -/
def commentRestSpec : ChangeSpec := { name := "commentRest", fn := fun _ => fun
  | [d1, d2] => { results := [.lit (.bool true)], args := [d1, d2] }
  | _ => none }
def commentRestRow : OpenClaim := { program := "ytjcmpmijbngjnaa", sum := "ef225fd8665bc963a96f2c92421291084f1bb472ff7e4c81a690ad7d6d1647f6", func := "flail/flaillaw10.CommentRest", spec := "commentRest", inPlace := ["internal/bytealg.IndexByteString", "internal/abi.NoEscape", "internal/bytealg.MakeNoZero"], unfollowed := true, recurses := true, apart := false }
def CommentRestSaid : Prop := commentRestRow.holds Try.pinned (OpenSpec.ofChange commentRestSpec)

/-- ITS FALSE NEIGHBOUR: 'it returns false'. Refute it at one input. -/
def commentRestWrong : ChangeSpec := { name := "commentRest", fn := fun _ => fun
  | [d1, d2] => { results := [.lit (.bool false)], args := [d1, d2] }
  | _ => none }
def CommentRestWrongFalsely : Prop := commentRestRow.holds Try.pinned (OpenSpec.ofChange commentRestWrong)

/-- 'flaillaw10.CommentOpen': WHATEVER THE INPUT: true; the input reads as it did. -/
def commentOpenSpec : ChangeSpec := { name := "commentOpen", fn := fun _ => fun
  | [d] => { results := [.lit (.bool true)], args := [d] }
  | _ => none }
def commentOpenRow : OpenClaim := { program := "ytjcmpmijbngjnaa", sum := "ef225fd8665bc963a96f2c92421291084f1bb472ff7e4c81a690ad7d6d1647f6", func := "flail/flaillaw10.CommentOpen", spec := "commentOpen", inPlace := ["internal/bytealg.IndexByteString", "internal/abi.NoEscape", "internal/bytealg.MakeNoZero"], unfollowed := true, recurses := true, apart := false }
def CommentOpenSaid : Prop := commentOpenRow.holds Try.pinned (OpenSpec.ofChange commentOpenSpec)

/-- ITS FALSE NEIGHBOUR: 'it returns false'. Refute it at one input. -/
def commentOpenWrong : ChangeSpec := { name := "commentOpen", fn := fun _ => fun
  | [d] => { results := [.lit (.bool false)], args := [d] }
  | _ => none }
def CommentOpenWrongFalsely : Prop := commentOpenRow.holds Try.pinned (OpenSpec.ofChange commentOpenWrong)

/- THE SECOND FORM. 'bulk': how many values and letters a reading holds, each counted each time it is reached (what is shared counts as often as it is met; a slice's spare places count too). A statement '..UptoSaid' is the law's where the arguments, and the package variables that the reading takes, are together of bulk at most 1048576: NARROWER than '..Said'. Prove '..Said' where nothing that the law and all that it calls make is longer than what came in: it says more and counts as full. Else prove '..UptoSaid'. A law counts once. -/
mutual
def uptoBulk {H : Type} : DataW H → Nat
  | .lit (.string bytes) => bytes.length + 1
  | .lit _ => 1
  | .nil => 1
  | .ptr d => uptoBulk d + 1
  | .slice elems spare => uptoBulkAll elems + uptoBulkAll spare + 1
  | .agg parts => uptoBulkAll parts + 1
  | .iface _ d => uptoBulk d + 1
  | .map entries => uptoBulkEntries entries + 1
  | .held _ => 1
def uptoBulkAll {H : Type} : List (DataW H) → Nat
  | [] => 0
  | d :: r => uptoBulk d + uptoBulkAll r
def uptoBulkEntries {H : Type} : List (Lit × DataW H) → Nat
  | [] => 0
  | x :: r => uptoBulkEntry x + uptoBulkEntries r
def uptoBulkEntry {H : Type} : Lit × DataW H → Nat
  | (.string bytes, d) => bytes.length + uptoBulk d + 1
  | (_, d) => uptoBulk d + 1
 end
def uptoSmall : (H : Type) → List (DataW H) → Bool := fun _ ds => decide (uptoBulkAll ds ≤ 1048576)
def OpenSpec.upto (s : _root_.Go.ChangeSpec) : _root_.Go.OpenSpec := { _root_.Go.OpenSpec.ofChange s with cond := some uptoSmall }

/-- 'flaillaw10.CommentReads', WHERE WHAT IT READS IS OF BULK AT MOST 1048576: true; the input reads as it did. -/
def commentReadsUptoRow : OpenClaim := { program := "ytjcmpmijbngjnaa", sum := "ef225fd8665bc963a96f2c92421291084f1bb472ff7e4c81a690ad7d6d1647f6", func := "flail/flaillaw10.CommentReads", spec := "commentReads", inPlace := ["internal/bytealg.IndexByteString", "internal/abi.NoEscape", "internal/bytealg.MakeNoZero"], unfollowed := true, recurses := true, apart := false, narrowed := true }
def CommentReadsUptoSaid : Prop := commentReadsUptoRow.holds Try.pinned (OpenSpec.upto commentReadsSpec)

/-- 'flaillaw10.CommentEnds', WHERE WHAT IT READS IS OF BULK AT MOST 1048576: true; the input reads as it did. -/
def commentEndsUptoRow : OpenClaim := { program := "ytjcmpmijbngjnaa", sum := "ef225fd8665bc963a96f2c92421291084f1bb472ff7e4c81a690ad7d6d1647f6", func := "flail/flaillaw10.CommentEnds", spec := "commentEnds", inPlace := ["internal/bytealg.IndexByteString", "internal/abi.NoEscape", "internal/bytealg.MakeNoZero"], unfollowed := true, recurses := true, apart := false, narrowed := true }
def CommentEndsUptoSaid : Prop := commentEndsUptoRow.holds Try.pinned (OpenSpec.upto commentEndsSpec)

/-- 'flaillaw10.CommentBogus', WHERE WHAT IT READS IS OF BULK AT MOST 1048576: true; the input reads as it did. -/
def commentBogusUptoRow : OpenClaim := { program := "ytjcmpmijbngjnaa", sum := "ef225fd8665bc963a96f2c92421291084f1bb472ff7e4c81a690ad7d6d1647f6", func := "flail/flaillaw10.CommentBogus", spec := "commentBogus", inPlace := ["internal/bytealg.IndexByteString", "internal/abi.NoEscape", "internal/bytealg.MakeNoZero"], unfollowed := true, recurses := true, apart := false, narrowed := true }
def CommentBogusUptoSaid : Prop := commentBogusUptoRow.holds Try.pinned (OpenSpec.upto commentBogusSpec)

/-- 'flaillaw10.CommentRest', WHERE WHAT IT READS IS OF BULK AT MOST 1048576: true; the input reads as it did. -/
def commentRestUptoRow : OpenClaim := { program := "ytjcmpmijbngjnaa", sum := "ef225fd8665bc963a96f2c92421291084f1bb472ff7e4c81a690ad7d6d1647f6", func := "flail/flaillaw10.CommentRest", spec := "commentRest", inPlace := ["internal/bytealg.IndexByteString", "internal/abi.NoEscape", "internal/bytealg.MakeNoZero"], unfollowed := true, recurses := true, apart := false, narrowed := true }
def CommentRestUptoSaid : Prop := commentRestUptoRow.holds Try.pinned (OpenSpec.upto commentRestSpec)

/-- 'flaillaw10.CommentOpen', WHERE WHAT IT READS IS OF BULK AT MOST 1048576: true; the input reads as it did. -/
def commentOpenUptoRow : OpenClaim := { program := "ytjcmpmijbngjnaa", sum := "ef225fd8665bc963a96f2c92421291084f1bb472ff7e4c81a690ad7d6d1647f6", func := "flail/flaillaw10.CommentOpen", spec := "commentOpen", inPlace := ["internal/bytealg.IndexByteString", "internal/abi.NoEscape", "internal/bytealg.MakeNoZero"], unfollowed := true, recurses := true, apart := false, narrowed := true }
def CommentOpenUptoSaid : Prop := commentOpenUptoRow.holds Try.pinned (OpenSpec.upto commentOpenSpec)

end Rows
end Go.Proofs.Ytjcmpmijbngjnaa
