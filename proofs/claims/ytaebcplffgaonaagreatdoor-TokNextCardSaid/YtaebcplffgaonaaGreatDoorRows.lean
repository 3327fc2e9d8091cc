/-
  NARROWER THAN 'FOR EVERY INPUT', by the rows' own cells (each row's printed sentence says how): TokTells: laid · TokNext: laid · TokJoins: laid · TokParts: laid · TokStates: laid · TokPlain: laid · TokNames: laid.
  DERIVED. THE GIVEN ROWS OF THIS SEAT. 7 by the template 'for every input the law returns true; each argument reads behind the call as it read before'; 0 by the template 'total and deterministic' (their statements: YtaebcplffgaonaaGreatDoorTotals.lean).
  GIVEN WITH THE SEED: the statements are not yours to turn. If you find one false, say at which input.
  Laid BY PROGRAM, IN A SANDBOX (cutbox-rows.mjs): the forced cells as the released guide's own fill.sh prints them over the translation 2d03a14a2ed15aa5… (all of the seat's roots in one cut). By AI agents, Wed Nov 11 2026. No macro, syntax, notation, axiom, sorry.
-/
import Derived.Test.YtaebcplffgaonaaGreatDoorChecked
import GoSem.Claim
import GoSem.ClaimJoined
import GoSem.ClaimMapViews
import Derived.JoinedTies
import Derived.KernelRfl
namespace Go.Proofs.YtaebcplffgaonaaGreatDoor
/- THE CELL 'sum', in the pinned program and in every row, IS THE sha256 OF THE DUMP (.gsa) THAT YtaebcplffgaonaaGreatDoorProg.lean LOADS. Nothing in Lean hashes anything: it is a label: what it is worth is what the hold of that sum in a sandbox is worth. -/
noncomputable def Tryz.pinned : Pinned := { name := "ytaebcplffgaonaagreatdoor", sum := "2d03a14a2ed15aa5e1ced003d8ae5ba248390402798361a83afa816c7579a9db", checked := Tryz.checked }
namespace Rows
def none {H : Type} : Left H := { results := [], args := [] }

/- WHAT THE LISTED PACKAGE-LEVEL VARIABLES READ AS WHEN THE CALL BEGINS. Each datum BY PROGRAM (the guide's laid-datum.mjs) off the statement by which the dump's own 'gosem.cut.vars' lays the variable. In a bare row this is a premise. The card (YtaebcplffgaonaaGreatDoorCards.lean) ties it to the program's text. -/
def laid_math_bits_deBruijn32tab {H : Type} : DataW H := .agg [.lit (.int .u8 0), .lit (.int .u8 1), .lit (.int .u8 28), .lit (.int .u8 2), .lit (.int .u8 29), .lit (.int .u8 14), .lit (.int .u8 24), .lit (.int .u8 3), .lit (.int .u8 30), .lit (.int .u8 22), .lit (.int .u8 20), .lit (.int .u8 15), .lit (.int .u8 25), .lit (.int .u8 17), .lit (.int .u8 4), .lit (.int .u8 8), .lit (.int .u8 31), .lit (.int .u8 27), .lit (.int .u8 13), .lit (.int .u8 23), .lit (.int .u8 21), .lit (.int .u8 19), .lit (.int .u8 16), .lit (.int .u8 7), .lit (.int .u8 26), .lit (.int .u8 12), .lit (.int .u8 18), .lit (.int .u8 6), .lit (.int .u8 11), .lit (.int .u8 5), .lit (.int .u8 10), .lit (.int .u8 9)]
def laid_math_bits_deBruijn64tab {H : Type} : DataW H := .agg [.lit (.int .u8 0), .lit (.int .u8 1), .lit (.int .u8 56), .lit (.int .u8 2), .lit (.int .u8 57), .lit (.int .u8 49), .lit (.int .u8 28), .lit (.int .u8 3), .lit (.int .u8 61), .lit (.int .u8 58), .lit (.int .u8 42), .lit (.int .u8 50), .lit (.int .u8 38), .lit (.int .u8 29), .lit (.int .u8 17), .lit (.int .u8 4), .lit (.int .u8 62), .lit (.int .u8 47), .lit (.int .u8 59), .lit (.int .u8 36), .lit (.int .u8 45), .lit (.int .u8 43), .lit (.int .u8 51), .lit (.int .u8 22), .lit (.int .u8 53), .lit (.int .u8 39), .lit (.int .u8 33), .lit (.int .u8 30), .lit (.int .u8 24), .lit (.int .u8 18), .lit (.int .u8 12), .lit (.int .u8 5), .lit (.int .u8 63), .lit (.int .u8 55), .lit (.int .u8 48), .lit (.int .u8 27), .lit (.int .u8 60), .lit (.int .u8 41), .lit (.int .u8 37), .lit (.int .u8 16), .lit (.int .u8 46), .lit (.int .u8 35), .lit (.int .u8 44), .lit (.int .u8 21), .lit (.int .u8 52), .lit (.int .u8 32), .lit (.int .u8 23), .lit (.int .u8 11), .lit (.int .u8 54), .lit (.int .u8 26), .lit (.int .u8 40), .lit (.int .u8 15), .lit (.int .u8 34), .lit (.int .u8 20), .lit (.int .u8 31), .lit (.int .u8 10), .lit (.int .u8 25), .lit (.int .u8 14), .lit (.int .u8 19), .lit (.int .u8 9), .lit (.int .u8 13), .lit (.int .u8 8), .lit (.int .u8 7), .lit (.int .u8 6)]
def laid_internal_strconv_uint64pow10 {H : Type} : DataW H := .agg [.lit (.int .u64 1), .lit (.int .u64 10), .lit (.int .u64 100), .lit (.int .u64 1000), .lit (.int .u64 10000), .lit (.int .u64 100000), .lit (.int .u64 1000000), .lit (.int .u64 10000000), .lit (.int .u64 100000000), .lit (.int .u64 1000000000), .lit (.int .u64 10000000000), .lit (.int .u64 100000000000), .lit (.int .u64 1000000000000), .lit (.int .u64 10000000000000), .lit (.int .u64 100000000000000), .lit (.int .u64 1000000000000000), .lit (.int .u64 10000000000000000), .lit (.int .u64 100000000000000000), .lit (.int .u64 1000000000000000000), .lit (.int .u64 10000000000000000000)]
def laid_strconv_ErrRange {H : Type} : DataW H := .iface "*errors.errorString" (.ptr (.agg [.lit (.string [118, 97, 108, 117, 101, 32, 111, 117, 116, 32, 111, 102, 32, 114, 97, 110, 103, 101])]))
def laid_strconv_ErrSyntax {H : Type} : DataW H := .iface "*errors.errorString" (.ptr (.agg [.lit (.string [105, 110, 118, 97, 108, 105, 100, 32, 115, 121, 110, 116, 97, 120])]))
def laid_flail_number_others {H : Type} : DataW H := .agg [.lit (.int .i64 8364), .lit (.int .i64 129), .lit (.int .i64 8218), .lit (.int .i64 402), .lit (.int .i64 8222), .lit (.int .i64 8230), .lit (.int .i64 8224), .lit (.int .i64 8225), .lit (.int .i64 710), .lit (.int .i64 8240), .lit (.int .i64 352), .lit (.int .i64 8249), .lit (.int .i64 338), .lit (.int .i64 141), .lit (.int .i64 381), .lit (.int .i64 143), .lit (.int .i64 144), .lit (.int .i64 8216), .lit (.int .i64 8217), .lit (.int .i64 8220), .lit (.int .i64 8221), .lit (.int .i64 8226), .lit (.int .i64 8211), .lit (.int .i64 8212), .lit (.int .i64 732), .lit (.int .i64 8482), .lit (.int .i64 353), .lit (.int .i64 8250), .lit (.int .i64 339), .lit (.int .i64 157), .lit (.int .i64 382), .lit (.int .i64 376)]

/-- 'flaillaw15.TokTells': WHATEVER THE INPUT: true; the input reads as it did. -/
def tokTellsSpec : ChangeSpec := { name := "tokTells", fn := fun _ => fun
  | [d1, d2, d3] => { results := [.lit (.bool true)], args := [d1, d2, d3] }
  | _ => none }
def tokTellsRow : OpenClaim := { program := "ytaebcplffgaonaagreatdoor", sum := "2d03a14a2ed15aa5e1ced003d8ae5ba248390402798361a83afa816c7579a9db", func := "flail/flaillaw15.TokTells", spec := "tokTells", inPlace := ["internal/bytealg.IndexByteString", "internal/bytealg.IndexString", "internal/abi.NoEscape", "internal/bytealg.MakeNoZero"], unfollowed := true, recurses := true, named := ["internal/bytealg.MaxLen", "flail/number.others", "strconv.ErrSyntax", "strconv.ErrRange", "internal/strconv.uint64pow10", "math/bits.deBruijn32tab", "math/bits.deBruijn64tab"], apart := false, laid := [("math/bits.deBruijn32tab", laid_math_bits_deBruijn32tab), ("math/bits.deBruijn64tab", laid_math_bits_deBruijn64tab), ("internal/strconv.uint64pow10", laid_internal_strconv_uint64pow10), ("strconv.ErrRange", laid_strconv_ErrRange), ("strconv.ErrSyntax", laid_strconv_ErrSyntax), ("flail/number.others", laid_flail_number_others)] }
def TokTellsSaid : Prop := tokTellsRow.holds Tryz.pinned (OpenSpec.ofChange tokTellsSpec)

/-- ITS FALSE NEIGHBOUR: 'it returns false'. Refute it at one input. -/
def tokTellsWrong : ChangeSpec := { name := "tokTells", fn := fun _ => fun
  | [d1, d2, d3] => { results := [.lit (.bool false)], args := [d1, d2, d3] }
  | _ => none }
def TokTellsWrongFalsely : Prop := tokTellsRow.holds Tryz.pinned (OpenSpec.ofChange tokTellsWrong)

/-- 'flaillaw15.TokNext': WHATEVER THE INPUT: true; the input reads as it did. -/
def tokNextSpec : ChangeSpec := { name := "tokNext", fn := fun _ => fun
  | [d1, d2, d3, d4] => { results := [.lit (.bool true)], args := [d1, d2, d3, d4] }
  | _ => none }
def tokNextRow : OpenClaim := { program := "ytaebcplffgaonaagreatdoor", sum := "2d03a14a2ed15aa5e1ced003d8ae5ba248390402798361a83afa816c7579a9db", func := "flail/flaillaw15.TokNext", spec := "tokNext", inPlace := ["internal/bytealg.IndexByteString", "internal/bytealg.IndexString", "internal/abi.NoEscape", "internal/bytealg.MakeNoZero"], unfollowed := true, recurses := true, named := ["internal/bytealg.MaxLen", "flail/number.others", "strconv.ErrSyntax", "strconv.ErrRange", "internal/strconv.uint64pow10", "math/bits.deBruijn32tab", "math/bits.deBruijn64tab"], apart := false, laid := [("math/bits.deBruijn32tab", laid_math_bits_deBruijn32tab), ("math/bits.deBruijn64tab", laid_math_bits_deBruijn64tab), ("internal/strconv.uint64pow10", laid_internal_strconv_uint64pow10), ("strconv.ErrRange", laid_strconv_ErrRange), ("strconv.ErrSyntax", laid_strconv_ErrSyntax), ("flail/number.others", laid_flail_number_others)] }
def TokNextSaid : Prop := tokNextRow.holds Tryz.pinned (OpenSpec.ofChange tokNextSpec)

/-- ITS FALSE NEIGHBOUR: 'it returns false'. Refute it at one input. -/
def tokNextWrong : ChangeSpec := { name := "tokNext", fn := fun _ => fun
  | [d1, d2, d3, d4] => { results := [.lit (.bool false)], args := [d1, d2, d3, d4] }
  | _ => none }
def TokNextWrongFalsely : Prop := tokNextRow.holds Tryz.pinned (OpenSpec.ofChange tokNextWrong)

/-- 'flaillaw15.TokJoins': WHATEVER THE INPUT: true; the input reads as it did. -/
def tokJoinsSpec : ChangeSpec := { name := "tokJoins", fn := fun _ => fun
  | [d] => { results := [.lit (.bool true)], args := [d] }
  | _ => none }
def tokJoinsRow : OpenClaim := { program := "ytaebcplffgaonaagreatdoor", sum := "2d03a14a2ed15aa5e1ced003d8ae5ba248390402798361a83afa816c7579a9db", func := "flail/flaillaw15.TokJoins", spec := "tokJoins", inPlace := ["internal/bytealg.IndexByteString", "internal/bytealg.IndexString", "internal/abi.NoEscape", "internal/bytealg.MakeNoZero"], unfollowed := true, recurses := true, named := ["internal/bytealg.MaxLen", "flail/number.others", "strconv.ErrSyntax", "strconv.ErrRange", "internal/strconv.uint64pow10", "math/bits.deBruijn32tab", "math/bits.deBruijn64tab"], apart := false, laid := [("math/bits.deBruijn32tab", laid_math_bits_deBruijn32tab), ("math/bits.deBruijn64tab", laid_math_bits_deBruijn64tab), ("internal/strconv.uint64pow10", laid_internal_strconv_uint64pow10), ("strconv.ErrRange", laid_strconv_ErrRange), ("strconv.ErrSyntax", laid_strconv_ErrSyntax), ("flail/number.others", laid_flail_number_others)] }
def TokJoinsSaid : Prop := tokJoinsRow.holds Tryz.pinned (OpenSpec.ofChange tokJoinsSpec)

/-- ITS FALSE NEIGHBOUR: 'it returns false'. Refute it at one input. -/
def tokJoinsWrong : ChangeSpec := { name := "tokJoins", fn := fun _ => fun
  | [d] => { results := [.lit (.bool false)], args := [d] }
  | _ => none }
def TokJoinsWrongFalsely : Prop := tokJoinsRow.holds Tryz.pinned (OpenSpec.ofChange tokJoinsWrong)

/-- 'flaillaw15.TokParts': WHATEVER THE INPUT: true; the input reads as it did. -/
def tokPartsSpec : ChangeSpec := { name := "tokParts", fn := fun _ => fun
  | [d1, d2] => { results := [.lit (.bool true)], args := [d1, d2] }
  | _ => none }
def tokPartsRow : OpenClaim := { program := "ytaebcplffgaonaagreatdoor", sum := "2d03a14a2ed15aa5e1ced003d8ae5ba248390402798361a83afa816c7579a9db", func := "flail/flaillaw15.TokParts", spec := "tokParts", inPlace := ["internal/bytealg.IndexByteString", "internal/bytealg.IndexString", "internal/abi.NoEscape", "internal/bytealg.MakeNoZero"], unfollowed := true, recurses := true, named := ["internal/bytealg.MaxLen", "flail/number.others", "strconv.ErrSyntax", "strconv.ErrRange", "internal/strconv.uint64pow10", "math/bits.deBruijn32tab", "math/bits.deBruijn64tab"], apart := false, laid := [("math/bits.deBruijn32tab", laid_math_bits_deBruijn32tab), ("math/bits.deBruijn64tab", laid_math_bits_deBruijn64tab), ("internal/strconv.uint64pow10", laid_internal_strconv_uint64pow10), ("strconv.ErrRange", laid_strconv_ErrRange), ("strconv.ErrSyntax", laid_strconv_ErrSyntax), ("flail/number.others", laid_flail_number_others)] }
def TokPartsSaid : Prop := tokPartsRow.holds Tryz.pinned (OpenSpec.ofChange tokPartsSpec)

/-- ITS FALSE NEIGHBOUR: 'it returns false'. Refute it at one input. -/
def tokPartsWrong : ChangeSpec := { name := "tokParts", fn := fun _ => fun
  | [d1, d2] => { results := [.lit (.bool false)], args := [d1, d2] }
  | _ => none }
def TokPartsWrongFalsely : Prop := tokPartsRow.holds Tryz.pinned (OpenSpec.ofChange tokPartsWrong)

/-- 'flaillaw15.TokStates': WHATEVER THE INPUT: true; the input reads as it did. -/
def tokStatesSpec : ChangeSpec := { name := "tokStates", fn := fun _ => fun
  | [d1, d2, d3] => { results := [.lit (.bool true)], args := [d1, d2, d3] }
  | _ => none }
def tokStatesRow : OpenClaim := { program := "ytaebcplffgaonaagreatdoor", sum := "2d03a14a2ed15aa5e1ced003d8ae5ba248390402798361a83afa816c7579a9db", func := "flail/flaillaw15.TokStates", spec := "tokStates", inPlace := ["internal/bytealg.IndexByteString", "internal/bytealg.IndexString", "internal/abi.NoEscape", "internal/bytealg.MakeNoZero"], unfollowed := true, recurses := true, named := ["internal/bytealg.MaxLen", "flail/number.others", "strconv.ErrSyntax", "strconv.ErrRange", "internal/strconv.uint64pow10", "math/bits.deBruijn32tab", "math/bits.deBruijn64tab"], apart := false, laid := [("math/bits.deBruijn32tab", laid_math_bits_deBruijn32tab), ("math/bits.deBruijn64tab", laid_math_bits_deBruijn64tab), ("internal/strconv.uint64pow10", laid_internal_strconv_uint64pow10), ("strconv.ErrRange", laid_strconv_ErrRange), ("strconv.ErrSyntax", laid_strconv_ErrSyntax), ("flail/number.others", laid_flail_number_others)] }
def TokStatesSaid : Prop := tokStatesRow.holds Tryz.pinned (OpenSpec.ofChange tokStatesSpec)

/-- ITS FALSE NEIGHBOUR: 'it returns false'. Refute it at one input. -/
def tokStatesWrong : ChangeSpec := { name := "tokStates", fn := fun _ => fun
  | [d1, d2, d3] => { results := [.lit (.bool false)], args := [d1, d2, d3] }
  | _ => none }
def TokStatesWrongFalsely : Prop := tokStatesRow.holds Tryz.pinned (OpenSpec.ofChange tokStatesWrong)

/-- 'flaillaw15.TokPlain': WHATEVER THE INPUT: true; the input reads as it did. -/
def tokPlainSpec : ChangeSpec := { name := "tokPlain", fn := fun _ => fun
  | [d1, d2] => { results := [.lit (.bool true)], args := [d1, d2] }
  | _ => none }
def tokPlainRow : OpenClaim := { program := "ytaebcplffgaonaagreatdoor", sum := "2d03a14a2ed15aa5e1ced003d8ae5ba248390402798361a83afa816c7579a9db", func := "flail/flaillaw15.TokPlain", spec := "tokPlain", inPlace := ["internal/bytealg.IndexByteString", "internal/bytealg.IndexString", "internal/abi.NoEscape", "internal/bytealg.MakeNoZero"], unfollowed := true, recurses := true, named := ["internal/bytealg.MaxLen", "flail/number.others", "strconv.ErrSyntax", "strconv.ErrRange", "internal/strconv.uint64pow10", "math/bits.deBruijn32tab", "math/bits.deBruijn64tab"], apart := false, laid := [("math/bits.deBruijn32tab", laid_math_bits_deBruijn32tab), ("math/bits.deBruijn64tab", laid_math_bits_deBruijn64tab), ("internal/strconv.uint64pow10", laid_internal_strconv_uint64pow10), ("strconv.ErrRange", laid_strconv_ErrRange), ("strconv.ErrSyntax", laid_strconv_ErrSyntax), ("flail/number.others", laid_flail_number_others)] }
def TokPlainSaid : Prop := tokPlainRow.holds Tryz.pinned (OpenSpec.ofChange tokPlainSpec)

/-- ITS FALSE NEIGHBOUR: 'it returns false'. Refute it at one input. -/
def tokPlainWrong : ChangeSpec := { name := "tokPlain", fn := fun _ => fun
  | [d1, d2] => { results := [.lit (.bool false)], args := [d1, d2] }
  | _ => none }
def TokPlainWrongFalsely : Prop := tokPlainRow.holds Tryz.pinned (OpenSpec.ofChange tokPlainWrong)

/-- 'flaillaw15.TokNames': WHATEVER THE INPUT: true; the input reads as it did. -/
def tokNamesSpec : ChangeSpec := { name := "tokNames", fn := fun _ => fun
  | [d1, d2, d3] => { results := [.lit (.bool true)], args := [d1, d2, d3] }
  | _ => none }
def tokNamesRow : OpenClaim := { program := "ytaebcplffgaonaagreatdoor", sum := "2d03a14a2ed15aa5e1ced003d8ae5ba248390402798361a83afa816c7579a9db", func := "flail/flaillaw15.TokNames", spec := "tokNames", inPlace := ["internal/bytealg.IndexByteString", "internal/bytealg.IndexString", "internal/abi.NoEscape", "internal/bytealg.MakeNoZero"], unfollowed := true, recurses := true, named := ["internal/bytealg.MaxLen", "flail/number.others", "strconv.ErrSyntax", "strconv.ErrRange", "internal/strconv.uint64pow10", "math/bits.deBruijn32tab", "math/bits.deBruijn64tab"], apart := false, laid := [("math/bits.deBruijn32tab", laid_math_bits_deBruijn32tab), ("math/bits.deBruijn64tab", laid_math_bits_deBruijn64tab), ("internal/strconv.uint64pow10", laid_internal_strconv_uint64pow10), ("strconv.ErrRange", laid_strconv_ErrRange), ("strconv.ErrSyntax", laid_strconv_ErrSyntax), ("flail/number.others", laid_flail_number_others)] }
def TokNamesSaid : Prop := tokNamesRow.holds Tryz.pinned (OpenSpec.ofChange tokNamesSpec)

/-- ITS FALSE NEIGHBOUR: 'it returns false'. Refute it at one input. -/
def tokNamesWrong : ChangeSpec := { name := "tokNames", fn := fun _ => fun
  | [d1, d2, d3] => { results := [.lit (.bool false)], args := [d1, d2, d3] }
  | _ => none }
def TokNamesWrongFalsely : Prop := tokNamesRow.holds Tryz.pinned (OpenSpec.ofChange tokNamesWrong)

/- THE SECOND FORM. 'bulk': how many values and letters a reading holds, each counted each time it is reached (what is shared counts as often as it is met; a slice's spare places count too). A statement '..UptoSaid' is the law's where the arguments, and the package variables that the reading takes, are together of bulk at most 1048576: NARROWER than '..Said'. Prove '..Said' where nothing that the law and all that it calls make is longer than what came in: it says more and counts as full. Else prove '..UptoSaid'. A law counts once. -/
mutual
def uptoBulk {H : Type} : DataW H → Nat
  | .lit (.string bytes) => bytes.length + 1
  | .lit _ => 1
  | .nil => 1
  | .ptr d => uptoBulk d + 1
  | .slice elems spare => uptoBulkAll elems + uptoBulkAll spare + 1
  | .agg parts => uptoBulkAll parts + 1
  | .iface _ d => uptoBulk d + 1
  | .map entries => uptoBulkEntries entries + 1
  | .held _ => 1
def uptoBulkAll {H : Type} : List (DataW H) → Nat
  | [] => 0
  | d :: r => uptoBulk d + uptoBulkAll r
def uptoBulkEntries {H : Type} : List (Lit × DataW H) → Nat
  | [] => 0
  | x :: r => uptoBulkEntry x + uptoBulkEntries r
def uptoBulkEntry {H : Type} : Lit × DataW H → Nat
  | (.string bytes, d) => bytes.length + uptoBulk d + 1
  | (_, d) => uptoBulk d + 1
 end
def uptoSmall : (H : Type) → List (DataW H) → Bool := fun _ ds => decide (uptoBulkAll ds ≤ 1048576)
def OpenSpec.upto (s : _root_.Go.ChangeSpec) : _root_.Go.OpenSpec := { _root_.Go.OpenSpec.ofChange s with cond := some uptoSmall }

/-- 'flaillaw15.TokTells', WHERE WHAT IT READS IS OF BULK AT MOST 1048576: true; the input reads as it did. -/
def tokTellsUptoRow : OpenClaim := { program := "ytaebcplffgaonaagreatdoor", sum := "2d03a14a2ed15aa5e1ced003d8ae5ba248390402798361a83afa816c7579a9db", func := "flail/flaillaw15.TokTells", spec := "tokTells", inPlace := ["internal/bytealg.IndexByteString", "internal/bytealg.IndexString", "internal/abi.NoEscape", "internal/bytealg.MakeNoZero"], unfollowed := true, recurses := true, named := ["internal/bytealg.MaxLen", "flail/number.others", "strconv.ErrSyntax", "strconv.ErrRange", "internal/strconv.uint64pow10", "math/bits.deBruijn32tab", "math/bits.deBruijn64tab"], apart := false, laid := [("math/bits.deBruijn32tab", laid_math_bits_deBruijn32tab), ("math/bits.deBruijn64tab", laid_math_bits_deBruijn64tab), ("internal/strconv.uint64pow10", laid_internal_strconv_uint64pow10), ("strconv.ErrRange", laid_strconv_ErrRange), ("strconv.ErrSyntax", laid_strconv_ErrSyntax), ("flail/number.others", laid_flail_number_others)], narrowed := true }
def TokTellsUptoSaid : Prop := tokTellsUptoRow.holds Tryz.pinned (OpenSpec.upto tokTellsSpec)

/-- 'flaillaw15.TokNext', WHERE WHAT IT READS IS OF BULK AT MOST 1048576: true; the input reads as it did. -/
def tokNextUptoRow : OpenClaim := { program := "ytaebcplffgaonaagreatdoor", sum := "2d03a14a2ed15aa5e1ced003d8ae5ba248390402798361a83afa816c7579a9db", func := "flail/flaillaw15.TokNext", spec := "tokNext", inPlace := ["internal/bytealg.IndexByteString", "internal/bytealg.IndexString", "internal/abi.NoEscape", "internal/bytealg.MakeNoZero"], unfollowed := true, recurses := true, named := ["internal/bytealg.MaxLen", "flail/number.others", "strconv.ErrSyntax", "strconv.ErrRange", "internal/strconv.uint64pow10", "math/bits.deBruijn32tab", "math/bits.deBruijn64tab"], apart := false, laid := [("math/bits.deBruijn32tab", laid_math_bits_deBruijn32tab), ("math/bits.deBruijn64tab", laid_math_bits_deBruijn64tab), ("internal/strconv.uint64pow10", laid_internal_strconv_uint64pow10), ("strconv.ErrRange", laid_strconv_ErrRange), ("strconv.ErrSyntax", laid_strconv_ErrSyntax), ("flail/number.others", laid_flail_number_others)], narrowed := true }
def TokNextUptoSaid : Prop := tokNextUptoRow.holds Tryz.pinned (OpenSpec.upto tokNextSpec)

/-- 'flaillaw15.TokJoins', WHERE WHAT IT READS IS OF BULK AT MOST 1048576: true; the input reads as it did. -/
def tokJoinsUptoRow : OpenClaim := { program := "ytaebcplffgaonaagreatdoor", sum := "2d03a14a2ed15aa5e1ced003d8ae5ba248390402798361a83afa816c7579a9db", func := "flail/flaillaw15.TokJoins", spec := "tokJoins", inPlace := ["internal/bytealg.IndexByteString", "internal/bytealg.IndexString", "internal/abi.NoEscape", "internal/bytealg.MakeNoZero"], unfollowed := true, recurses := true, named := ["internal/bytealg.MaxLen", "flail/number.others", "strconv.ErrSyntax", "strconv.ErrRange", "internal/strconv.uint64pow10", "math/bits.deBruijn32tab", "math/bits.deBruijn64tab"], apart := false, laid := [("math/bits.deBruijn32tab", laid_math_bits_deBruijn32tab), ("math/bits.deBruijn64tab", laid_math_bits_deBruijn64tab), ("internal/strconv.uint64pow10", laid_internal_strconv_uint64pow10), ("strconv.ErrRange", laid_strconv_ErrRange), ("strconv.ErrSyntax", laid_strconv_ErrSyntax), ("flail/number.others", laid_flail_number_others)], narrowed := true }
def TokJoinsUptoSaid : Prop := tokJoinsUptoRow.holds Tryz.pinned (OpenSpec.upto tokJoinsSpec)

/-- 'flaillaw15.TokParts', WHERE WHAT IT READS IS OF BULK AT MOST 1048576: true; the input reads as it did. -/
def tokPartsUptoRow : OpenClaim := { program := "ytaebcplffgaonaagreatdoor", sum := "2d03a14a2ed15aa5e1ced003d8ae5ba248390402798361a83afa816c7579a9db", func := "flail/flaillaw15.TokParts", spec := "tokParts", inPlace := ["internal/bytealg.IndexByteString", "internal/bytealg.IndexString", "internal/abi.NoEscape", "internal/bytealg.MakeNoZero"], unfollowed := true, recurses := true, named := ["internal/bytealg.MaxLen", "flail/number.others", "strconv.ErrSyntax", "strconv.ErrRange", "internal/strconv.uint64pow10", "math/bits.deBruijn32tab", "math/bits.deBruijn64tab"], apart := false, laid := [("math/bits.deBruijn32tab", laid_math_bits_deBruijn32tab), ("math/bits.deBruijn64tab", laid_math_bits_deBruijn64tab), ("internal/strconv.uint64pow10", laid_internal_strconv_uint64pow10), ("strconv.ErrRange", laid_strconv_ErrRange), ("strconv.ErrSyntax", laid_strconv_ErrSyntax), ("flail/number.others", laid_flail_number_others)], narrowed := true }
def TokPartsUptoSaid : Prop := tokPartsUptoRow.holds Tryz.pinned (OpenSpec.upto tokPartsSpec)

/-- 'flaillaw15.TokStates', WHERE WHAT IT READS IS OF BULK AT MOST 1048576: true; the input reads as it did. -/
def tokStatesUptoRow : OpenClaim := { program := "ytaebcplffgaonaagreatdoor", sum := "2d03a14a2ed15aa5e1ced003d8ae5ba248390402798361a83afa816c7579a9db", func := "flail/flaillaw15.TokStates", spec := "tokStates", inPlace := ["internal/bytealg.IndexByteString", "internal/bytealg.IndexString", "internal/abi.NoEscape", "internal/bytealg.MakeNoZero"], unfollowed := true, recurses := true, named := ["internal/bytealg.MaxLen", "flail/number.others", "strconv.ErrSyntax", "strconv.ErrRange", "internal/strconv.uint64pow10", "math/bits.deBruijn32tab", "math/bits.deBruijn64tab"], apart := false, laid := [("math/bits.deBruijn32tab", laid_math_bits_deBruijn32tab), ("math/bits.deBruijn64tab", laid_math_bits_deBruijn64tab), ("internal/strconv.uint64pow10", laid_internal_strconv_uint64pow10), ("strconv.ErrRange", laid_strconv_ErrRange), ("strconv.ErrSyntax", laid_strconv_ErrSyntax), ("flail/number.others", laid_flail_number_others)], narrowed := true }
def TokStatesUptoSaid : Prop := tokStatesUptoRow.holds Tryz.pinned (OpenSpec.upto tokStatesSpec)

/-- 'flaillaw15.TokPlain', WHERE WHAT IT READS IS OF BULK AT MOST 1048576: true; the input reads as it did. -/
def tokPlainUptoRow : OpenClaim := { program := "ytaebcplffgaonaagreatdoor", sum := "2d03a14a2ed15aa5e1ced003d8ae5ba248390402798361a83afa816c7579a9db", func := "flail/flaillaw15.TokPlain", spec := "tokPlain", inPlace := ["internal/bytealg.IndexByteString", "internal/bytealg.IndexString", "internal/abi.NoEscape", "internal/bytealg.MakeNoZero"], unfollowed := true, recurses := true, named := ["internal/bytealg.MaxLen", "flail/number.others", "strconv.ErrSyntax", "strconv.ErrRange", "internal/strconv.uint64pow10", "math/bits.deBruijn32tab", "math/bits.deBruijn64tab"], apart := false, laid := [("math/bits.deBruijn32tab", laid_math_bits_deBruijn32tab), ("math/bits.deBruijn64tab", laid_math_bits_deBruijn64tab), ("internal/strconv.uint64pow10", laid_internal_strconv_uint64pow10), ("strconv.ErrRange", laid_strconv_ErrRange), ("strconv.ErrSyntax", laid_strconv_ErrSyntax), ("flail/number.others", laid_flail_number_others)], narrowed := true }
def TokPlainUptoSaid : Prop := tokPlainUptoRow.holds Tryz.pinned (OpenSpec.upto tokPlainSpec)

/-- 'flaillaw15.TokNames', WHERE WHAT IT READS IS OF BULK AT MOST 1048576: true; the input reads as it did. -/
def tokNamesUptoRow : OpenClaim := { program := "ytaebcplffgaonaagreatdoor", sum := "2d03a14a2ed15aa5e1ced003d8ae5ba248390402798361a83afa816c7579a9db", func := "flail/flaillaw15.TokNames", spec := "tokNames", inPlace := ["internal/bytealg.IndexByteString", "internal/bytealg.IndexString", "internal/abi.NoEscape", "internal/bytealg.MakeNoZero"], unfollowed := true, recurses := true, named := ["internal/bytealg.MaxLen", "flail/number.others", "strconv.ErrSyntax", "strconv.ErrRange", "internal/strconv.uint64pow10", "math/bits.deBruijn32tab", "math/bits.deBruijn64tab"], apart := false, laid := [("math/bits.deBruijn32tab", laid_math_bits_deBruijn32tab), ("math/bits.deBruijn64tab", laid_math_bits_deBruijn64tab), ("internal/strconv.uint64pow10", laid_internal_strconv_uint64pow10), ("strconv.ErrRange", laid_strconv_ErrRange), ("strconv.ErrSyntax", laid_strconv_ErrSyntax), ("flail/number.others", laid_flail_number_others)], narrowed := true }
def TokNamesUptoSaid : Prop := tokNamesUptoRow.holds Tryz.pinned (OpenSpec.upto tokNamesSpec)

end Rows
end Go.Proofs.YtaebcplffgaonaaGreatDoor
