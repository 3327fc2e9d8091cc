/-
  NARROWER THAN 'FOR EVERY INPUT', by the rows' own cells (each row's printed sentence says how): NumberFixes: laid · NumberReads: laid · NumberZeros: laid · NumberTold: laid · NumberEnds: laid · NumberHex: laid.
  DERIVED. THE GIVEN ROWS OF THIS SEAT. 6 by the template 'for every input the law returns true; each argument reads behind the call as it read before'; 0 by the template 'total and deterministic' (their statements: YtionbaedddnggaaDoorTotals.lean).
  GIVEN WITH THE SEED: the statements are not yours to turn. If you find one false, say at which input.
  Laid BY PROGRAM, IN A SANDBOX (cutbox-rows.mjs): the forced cells as the released guide's own fill.sh prints them over the translation 696d09f859a76ce4… (all of the seat's roots in one cut). By AI agents, Wed Nov 11 2026. No macro, syntax, notation, axiom, sorry.
-/
import Derived.Test.YtionbaedddnggaaDoorChecked
import GoSem.Claim
import GoSem.ClaimJoined
import GoSem.ClaimMapViews
import Derived.JoinedTies
import Derived.KernelRfl
namespace Go.Proofs.YtionbaedddnggaaDoor
/- THE CELL 'sum', in the pinned program and in every row, IS THE sha256 OF THE DUMP (.gsa) THAT YtionbaedddnggaaDoorProg.lean LOADS. Nothing in Lean hashes anything: it is a label: what it is worth is what the hold of that sum in a sandbox is worth. -/
noncomputable def Tryd.pinned : Pinned := { name := "ytionbaedddnggaadoor", sum := "696d09f859a76ce4701f2edc310c1a9562b5e7471ea3c230c635b6c0da3b2b7a", checked := Tryd.checked }
namespace Rows
def none {H : Type} : Left H := { results := [], args := [] }

/- WHAT THE LISTED PACKAGE-LEVEL VARIABLES READ AS WHEN THE CALL BEGINS. Each datum BY PROGRAM (the guide's laid-datum.mjs) off the statement by which the dump's own 'gosem.cut.vars' lays the variable. In a bare row this is a premise. The card (YtionbaedddnggaaDoorCards.lean) ties it to the program's text. -/
def laid_flail_number_others {H : Type} : DataW H := .agg [.lit (.int .i64 8364), .lit (.int .i64 129), .lit (.int .i64 8218), .lit (.int .i64 402), .lit (.int .i64 8222), .lit (.int .i64 8230), .lit (.int .i64 8224), .lit (.int .i64 8225), .lit (.int .i64 710), .lit (.int .i64 8240), .lit (.int .i64 352), .lit (.int .i64 8249), .lit (.int .i64 338), .lit (.int .i64 141), .lit (.int .i64 381), .lit (.int .i64 143), .lit (.int .i64 144), .lit (.int .i64 8216), .lit (.int .i64 8217), .lit (.int .i64 8220), .lit (.int .i64 8221), .lit (.int .i64 8226), .lit (.int .i64 8211), .lit (.int .i64 8212), .lit (.int .i64 732), .lit (.int .i64 8482), .lit (.int .i64 353), .lit (.int .i64 8250), .lit (.int .i64 339), .lit (.int .i64 157), .lit (.int .i64 382), .lit (.int .i64 376)]

/-- 'flaillaw04.NumberFixes': WHATEVER THE INPUT: true; the input reads as it did. -/
def numberFixesSpec : ChangeSpec := { name := "numberFixes", fn := fun _ => fun
  | [d] => { results := [.lit (.bool true)], args := [d] }
  | _ => none }
def numberFixesRow : OpenClaim := { program := "ytionbaedddnggaadoor", sum := "696d09f859a76ce4701f2edc310c1a9562b5e7471ea3c230c635b6c0da3b2b7a", func := "flail/flaillaw04.NumberFixes", spec := "numberFixes", named := ["flail/number.others"], apart := false, laid := [("flail/number.others", laid_flail_number_others)] }
def NumberFixesSaid : Prop := numberFixesRow.holds Tryd.pinned (OpenSpec.ofChange numberFixesSpec)

/-- ITS FALSE NEIGHBOUR: 'it returns false'. Refute it at one input. -/
def numberFixesWrong : ChangeSpec := { name := "numberFixes", fn := fun _ => fun
  | [d] => { results := [.lit (.bool false)], args := [d] }
  | _ => none }
def NumberFixesWrongFalsely : Prop := numberFixesRow.holds Tryd.pinned (OpenSpec.ofChange numberFixesWrong)

/-- 'flaillaw04.NumberReads': WHATEVER THE INPUT: true; the input reads as it did. -/
def numberReadsSpec : ChangeSpec := { name := "numberReads", fn := fun _ => fun
  | [d1, d2, d3] => { results := [.lit (.bool true)], args := [d1, d2, d3] }
  | _ => none }
def numberReadsRow : OpenClaim := { program := "ytionbaedddnggaadoor", sum := "696d09f859a76ce4701f2edc310c1a9562b5e7471ea3c230c635b6c0da3b2b7a", func := "flail/flaillaw04.NumberReads", spec := "numberReads", named := ["flail/number.others"], apart := false, laid := [("flail/number.others", laid_flail_number_others)] }
def NumberReadsSaid : Prop := numberReadsRow.holds Tryd.pinned (OpenSpec.ofChange numberReadsSpec)

/-- ITS FALSE NEIGHBOUR: 'it returns false'. Refute it at one input. -/
def numberReadsWrong : ChangeSpec := { name := "numberReads", fn := fun _ => fun
  | [d1, d2, d3] => { results := [.lit (.bool false)], args := [d1, d2, d3] }
  | _ => none }
def NumberReadsWrongFalsely : Prop := numberReadsRow.holds Tryd.pinned (OpenSpec.ofChange numberReadsWrong)

/-- 'flaillaw04.NumberZeros': WHATEVER THE INPUT: true; the input reads as it did. -/
def numberZerosSpec : ChangeSpec := { name := "numberZeros", fn := fun _ => fun
  | [d1, d2] => { results := [.lit (.bool true)], args := [d1, d2] }
  | _ => none }
def numberZerosRow : OpenClaim := { program := "ytionbaedddnggaadoor", sum := "696d09f859a76ce4701f2edc310c1a9562b5e7471ea3c230c635b6c0da3b2b7a", func := "flail/flaillaw04.NumberZeros", spec := "numberZeros", named := ["flail/number.others"], apart := false, laid := [("flail/number.others", laid_flail_number_others)] }
def NumberZerosSaid : Prop := numberZerosRow.holds Tryd.pinned (OpenSpec.ofChange numberZerosSpec)

/-- ITS FALSE NEIGHBOUR: 'it returns false'. Refute it at one input. -/
def numberZerosWrong : ChangeSpec := { name := "numberZeros", fn := fun _ => fun
  | [d1, d2] => { results := [.lit (.bool false)], args := [d1, d2] }
  | _ => none }
def NumberZerosWrongFalsely : Prop := numberZerosRow.holds Tryd.pinned (OpenSpec.ofChange numberZerosWrong)

/-- 'flaillaw04.NumberTold': WHATEVER THE INPUT: true; the input reads as it did. -/
def numberToldSpec : ChangeSpec := { name := "numberTold", fn := fun _ => fun
  | [d1, d2] => { results := [.lit (.bool true)], args := [d1, d2] }
  | _ => none }
def numberToldRow : OpenClaim := { program := "ytionbaedddnggaadoor", sum := "696d09f859a76ce4701f2edc310c1a9562b5e7471ea3c230c635b6c0da3b2b7a", func := "flail/flaillaw04.NumberTold", spec := "numberTold", recurses := true, named := ["flail/number.others"], apart := false, laid := [("flail/number.others", laid_flail_number_others)] }
def NumberToldSaid : Prop := numberToldRow.holds Tryd.pinned (OpenSpec.ofChange numberToldSpec)

/-- ITS FALSE NEIGHBOUR: 'it returns false'. Refute it at one input. -/
def numberToldWrong : ChangeSpec := { name := "numberTold", fn := fun _ => fun
  | [d1, d2] => { results := [.lit (.bool false)], args := [d1, d2] }
  | _ => none }
def NumberToldWrongFalsely : Prop := numberToldRow.holds Tryd.pinned (OpenSpec.ofChange numberToldWrong)

/-- 'flaillaw04.NumberEnds': WHATEVER THE INPUT: true; the input reads as it did. -/
def numberEndsSpec : ChangeSpec := { name := "numberEnds", fn := fun _ => fun
  | [d1, d2] => { results := [.lit (.bool true)], args := [d1, d2] }
  | _ => none }
def numberEndsRow : OpenClaim := { program := "ytionbaedddnggaadoor", sum := "696d09f859a76ce4701f2edc310c1a9562b5e7471ea3c230c635b6c0da3b2b7a", func := "flail/flaillaw04.NumberEnds", spec := "numberEnds", named := ["flail/number.others"], apart := false, laid := [("flail/number.others", laid_flail_number_others)] }
def NumberEndsSaid : Prop := numberEndsRow.holds Tryd.pinned (OpenSpec.ofChange numberEndsSpec)

/-- ITS FALSE NEIGHBOUR: 'it returns false'. Refute it at one input. -/
def numberEndsWrong : ChangeSpec := { name := "numberEnds", fn := fun _ => fun
  | [d1, d2] => { results := [.lit (.bool false)], args := [d1, d2] }
  | _ => none }
def NumberEndsWrongFalsely : Prop := numberEndsRow.holds Tryd.pinned (OpenSpec.ofChange numberEndsWrong)

/-- 'flaillaw04.NumberHex': WHATEVER THE INPUT: true; the input reads as it did. -/
def numberHexSpec : ChangeSpec := { name := "numberHex", fn := fun _ => fun
  | [d] => { results := [.lit (.bool true)], args := [d] }
  | _ => none }
def numberHexRow : OpenClaim := { program := "ytionbaedddnggaadoor", sum := "696d09f859a76ce4701f2edc310c1a9562b5e7471ea3c230c635b6c0da3b2b7a", func := "flail/flaillaw04.NumberHex", spec := "numberHex", recurses := true, named := ["flail/number.others"], apart := false, laid := [("flail/number.others", laid_flail_number_others)] }
def NumberHexSaid : Prop := numberHexRow.holds Tryd.pinned (OpenSpec.ofChange numberHexSpec)

/-- ITS FALSE NEIGHBOUR: 'it returns false'. Refute it at one input. -/
def numberHexWrong : ChangeSpec := { name := "numberHex", fn := fun _ => fun
  | [d] => { results := [.lit (.bool false)], args := [d] }
  | _ => none }
def NumberHexWrongFalsely : Prop := numberHexRow.holds Tryd.pinned (OpenSpec.ofChange numberHexWrong)

/- THE SECOND FORM. 'bulk': how many values and letters a reading holds, each counted each time it is reached (what is shared counts as often as it is met; a slice's spare places count too). A statement '..UptoSaid' is the law's where the arguments, and the package variables that the reading takes, are together of bulk at most 1048576: NARROWER than '..Said'. Prove '..Said' where nothing that the law and all that it calls make is longer than what came in: it says more and counts as full. Else prove '..UptoSaid'. A law counts once. -/
mutual
def uptoBulk {H : Type} : DataW H → Nat
  | .lit (.string bytes) => bytes.length + 1
  | .lit _ => 1
  | .nil => 1
  | .ptr d => uptoBulk d + 1
  | .slice elems spare => uptoBulkAll elems + uptoBulkAll spare + 1
  | .agg parts => uptoBulkAll parts + 1
  | .iface _ d => uptoBulk d + 1
  | .map entries => uptoBulkEntries entries + 1
  | .held _ => 1
def uptoBulkAll {H : Type} : List (DataW H) → Nat
  | [] => 0
  | d :: r => uptoBulk d + uptoBulkAll r
def uptoBulkEntries {H : Type} : List (Lit × DataW H) → Nat
  | [] => 0
  | x :: r => uptoBulkEntry x + uptoBulkEntries r
def uptoBulkEntry {H : Type} : Lit × DataW H → Nat
  | (.string bytes, d) => bytes.length + uptoBulk d + 1
  | (_, d) => uptoBulk d + 1
 end
def uptoSmall : (H : Type) → List (DataW H) → Bool := fun _ ds => decide (uptoBulkAll ds ≤ 1048576)
def OpenSpec.upto (s : _root_.Go.ChangeSpec) : _root_.Go.OpenSpec := { _root_.Go.OpenSpec.ofChange s with cond := some uptoSmall }

/-- 'flaillaw04.NumberFixes', WHERE WHAT IT READS IS OF BULK AT MOST 1048576: true; the input reads as it did. -/
def numberFixesUptoRow : OpenClaim := { program := "ytionbaedddnggaadoor", sum := "696d09f859a76ce4701f2edc310c1a9562b5e7471ea3c230c635b6c0da3b2b7a", func := "flail/flaillaw04.NumberFixes", spec := "numberFixes", named := ["flail/number.others"], apart := false, laid := [("flail/number.others", laid_flail_number_others)], narrowed := true }
def NumberFixesUptoSaid : Prop := numberFixesUptoRow.holds Tryd.pinned (OpenSpec.upto numberFixesSpec)

/-- 'flaillaw04.NumberReads', WHERE WHAT IT READS IS OF BULK AT MOST 1048576: true; the input reads as it did. -/
def numberReadsUptoRow : OpenClaim := { program := "ytionbaedddnggaadoor", sum := "696d09f859a76ce4701f2edc310c1a9562b5e7471ea3c230c635b6c0da3b2b7a", func := "flail/flaillaw04.NumberReads", spec := "numberReads", named := ["flail/number.others"], apart := false, laid := [("flail/number.others", laid_flail_number_others)], narrowed := true }
def NumberReadsUptoSaid : Prop := numberReadsUptoRow.holds Tryd.pinned (OpenSpec.upto numberReadsSpec)

/-- 'flaillaw04.NumberZeros', WHERE WHAT IT READS IS OF BULK AT MOST 1048576: true; the input reads as it did. -/
def numberZerosUptoRow : OpenClaim := { program := "ytionbaedddnggaadoor", sum := "696d09f859a76ce4701f2edc310c1a9562b5e7471ea3c230c635b6c0da3b2b7a", func := "flail/flaillaw04.NumberZeros", spec := "numberZeros", named := ["flail/number.others"], apart := false, laid := [("flail/number.others", laid_flail_number_others)], narrowed := true }
def NumberZerosUptoSaid : Prop := numberZerosUptoRow.holds Tryd.pinned (OpenSpec.upto numberZerosSpec)

/-- 'flaillaw04.NumberTold', WHERE WHAT IT READS IS OF BULK AT MOST 1048576: true; the input reads as it did. -/
def numberToldUptoRow : OpenClaim := { program := "ytionbaedddnggaadoor", sum := "696d09f859a76ce4701f2edc310c1a9562b5e7471ea3c230c635b6c0da3b2b7a", func := "flail/flaillaw04.NumberTold", spec := "numberTold", recurses := true, named := ["flail/number.others"], apart := false, laid := [("flail/number.others", laid_flail_number_others)], narrowed := true }
def NumberToldUptoSaid : Prop := numberToldUptoRow.holds Tryd.pinned (OpenSpec.upto numberToldSpec)

/-- 'flaillaw04.NumberEnds', WHERE WHAT IT READS IS OF BULK AT MOST 1048576: true; the input reads as it did. -/
def numberEndsUptoRow : OpenClaim := { program := "ytionbaedddnggaadoor", sum := "696d09f859a76ce4701f2edc310c1a9562b5e7471ea3c230c635b6c0da3b2b7a", func := "flail/flaillaw04.NumberEnds", spec := "numberEnds", named := ["flail/number.others"], apart := false, laid := [("flail/number.others", laid_flail_number_others)], narrowed := true }
def NumberEndsUptoSaid : Prop := numberEndsUptoRow.holds Tryd.pinned (OpenSpec.upto numberEndsSpec)

/-- 'flaillaw04.NumberHex', WHERE WHAT IT READS IS OF BULK AT MOST 1048576: true; the input reads as it did. -/
def numberHexUptoRow : OpenClaim := { program := "ytionbaedddnggaadoor", sum := "696d09f859a76ce4701f2edc310c1a9562b5e7471ea3c230c635b6c0da3b2b7a", func := "flail/flaillaw04.NumberHex", spec := "numberHex", recurses := true, named := ["flail/number.others"], apart := false, laid := [("flail/number.others", laid_flail_number_others)], narrowed := true }
def NumberHexUptoSaid : Prop := numberHexUptoRow.holds Tryd.pinned (OpenSpec.upto numberHexSpec)

end Rows
end Go.Proofs.YtionbaedddnggaaDoor
