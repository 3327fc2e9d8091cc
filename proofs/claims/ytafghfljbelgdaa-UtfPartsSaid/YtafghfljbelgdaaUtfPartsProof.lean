/-
  The law UtfParts of flail/flaillaw01 answers true for every input, and changes nothing that was there. No condition.
-/
import Derived.Test.YtafghfljbelgdaaRows
import Derived.Test.YtafghfljbelgdaaUtfJoin
import Derived.WalkKit
import Derived.ProofKit
import Derived.OpenShut
import Derived.ShutString
import Derived.ChangeOld
import Derived.Below
namespace Go.Proofs.Ytafghfljbelgdaa.utfParts
open Go.ChangeShapes Go.WideShapes Go.ChangeAt Go.RowKit
open Go.ChangeMaps (open_string shut_string)
set_option linter.unusedVariables false

theorem own : ownKnob Try.prog.godebug = none := by kernel_rfl
theorem laidOut : laidOutB Try.prog = true := by kernel_rfl

/-- WHAT THE WALK IS TOLD OF A SLICE OF INTEGERS THAT CAME IN: it is nil; or it leads to a row of 'cap' cells, the numbers 'zs' (the first 'len' are its elements, the rest its spare room), each fitting its kind. -/
def IsRow (k : IntKind) (w : World) (a : Option Addr) (len cap : Nat) (zs : List Int) : Prop :=
  (a = none ∧ len = 0 ∧ cap = 0 ∧ zs = []) ∨
  ∃ x, a = some x ∧ len ≤ cap ∧ cap ≤ maxLen ∧ zs.length = cap ∧ (∀ i, i < zs.length → w.cell? (x.add i) = some (.int k (zs.getD i 0))) ∧ ∀ n ∈ zs, (Lit.int k n).wf = true

set_option maxRecDepth 100000 in
set_option maxHeartbeats 4000000 in
theorem walk (a0 : Option Addr) (len0 cap0 : Nat) (z0 : List Int) (a1 : Option Addr) (len1 cap1 : Nat) (z1 : List Int) (a2 : Int) (w : World) (w0 : IsRow .u8 w a0 len0 cap0 z0) (w1 : IsRow .u8 w a1 len1 cap1 z1) (w2 : (Lit.int .u8 a2).wf = true) :
    Calls Try.prog 7 #[.slice a0 len0 cap0, .slice a1 len1 cap1, .int .u8 a2] w fun e w' => e = .returned (.bool true) ∧ Below w.heap.size w w' := by
  have hx : 0 ≤ a2 ∧ a2 ≤ 255 := by simpa [Lit.wf, IntKind.min, IntKind.max, IntKind.signed, IntKind.bits] using w2
  obtain ⟨la, hla, ba⟩ := isBytes_row w0
  obtain ⟨lb, hlb, bb⟩ := isBytes_row w1
  clear w0 w1 w2
  by_cases h1 : 300 < len0
  · have Hb := Lib.hid (And.intro ba bb)
    clear ba bb hla hlb
    go_enter Try.func7, Try.ntmps7
    go_wp2_with (go_at_call 10; refine (awake_any w).mono ?_; rintro e w1 ⟨rfl, hb1⟩)
    go_ret
    exact ⟨rfl, hb1⟩
  have h1' : len0 ≤ 300 := by omega
  by_cases h2 : 300 < len1
  · have Hb := Lib.hid (And.intro ba bb)
    clear ba bb hla hlb
    go_enter Try.func7, Try.ntmps7
    go_wp2_with (go_at_call 10; refine (awake_any w).mono ?_; rintro e w1 ⟨rfl, hb1⟩)
    go_ret
    exact ⟨rfl, hb1⟩
  have h2' : len1 ≤ 300 := by omega
  obtain ⟨x, hx128, hxe⟩ : ∃ x : UInt8, x.toNat < 128 ∧ (x.toNat : Int) = a2 % 128 := by
    refine ⟨(a2 % 128).toNat.toUInt8, ?_, ?_⟩ <;> rw [u8nat _ (by omega) (by omega)] <;> omega
  have HX := Lib.hid hxe
  have HLA := Lib.hid hla
  have HLB := Lib.hid hlb
  clear hxe hla hlb
  obtain ⟨i0, hi, hz0, hz1, hz2⟩ := info_parts byteInfo
  go_enter Try.func7, Try.ntmps7
  go_wp2_with (fail)
  refine (awake_any w).mono ?_
  rintro e w4 ⟨rfl, hb4⟩
  have hs4 := hb4.size
  go_wp2_with (at_builtin; refine wpList_append_G _ rfl _ _ 22 22 rfl w4.heap.size 5 i0 _ 1 1 Try.underlying22 hi hz0 hz1 hz2 rfl _ 0 (Lib.byteCells []) rfl ?own _ len0 (Lib.byteCells la) rfl ?src ?c1 ?c2 ?c3 ?_)
  case own => exact OwnsG.made w4 w4.heap.size rfl _ [] 0 w4.heap.size rfl rfl (Nat.zero_le _) (Nat.le_refl _)
  case src => exact src_at ((ba.kept hb4).kept ((Below.refl _ w4).alloc (Nat.le_refl _) _)) HLA.out
  case c1 => unfold maxLen; omega
  case c2 => omega
  case c3 => simp
  intro v1 w5 own1 gr1 hat1
  have hs5 := gr1.size
  simp at hs5
  have B5 : Below w4.heap.size w4 w5 := ((Below.refl _ w4).alloc (Nat.le_refl _) _).grown gr1 (by simp) (fun k hk => by simp [Value.ownBlock] at hk; omega)
  have lo1 := own1.lt
  obtain ⟨x1, cap1', rfl, -, -⟩ := own1.form
  have hcx : (#[Value.int .u8 (a2 % 128)] : Array Value).toList = Lib.byteCells [x] := by simp [Lib.byteCells, HX.out]
  have HCX := Lib.hid hcx
  clear hcx
  go_wp2_with (at_builtin; refine wpList_append_G _ rfl _ _ 22 22 rfl w4.heap.size 5 i0 _ 1 1 Try.underlying22 hi hz0 hz1 hz2 rfl _ len0 (Lib.byteCells [] ++ Lib.byteCells la) rfl ?own _ 1 (Lib.byteCells [x]) rfl ?src ?c1 ?c2 ?c3 ?_)
  case own => exact own1.alloc _
  case src => exact src_at (isBytes_at w5 w5.heap.size rfl _ _ [x] 1 rfl HCX.out (by decide)) rfl
  case c1 => unfold maxLen; omega
  case c2 => omega
  case c3 => first | omega | (simp; omega)
  intro v2 w6 own2 gr2 hat2
  have hs6 := gr2.size
  simp at hs6
  have B6 : Below w4.heap.size w4 w6 := (B5.alloc (by omega) _).grown gr2 (by simp; omega) (fun k hk => (lo1 k hk).1)
  have lo2 := own2.lt
  obtain ⟨x2, cap2, rfl, -, -⟩ := own2.form
  go_wp2_with (at_builtin; refine wpList_append_G _ rfl _ _ 22 22 rfl w4.heap.size 5 i0 _ 1 1 Try.underlying22 hi hz0 hz1 hz2 rfl _ _ _ rfl own2 _ len1 (Lib.byteCells lb) rfl ?src ?c1 ?c2 ?c3 ?_)
  case src => exact src_at ((bb.kept hb4).kept B6) HLB.out
  case c1 => unfold maxLen; omega
  case c2 => omega
  case c3 => omega
  intro v3 w7 own3 gr3 hat3
  have hs7 := gr3.size
  have B7 : Below w4.heap.size w4 w7 := B6.grown gr3 (by omega) (fun k hk => (lo2 k hk).1)
  obtain ⟨x3, cap3, rfl, -, -⟩ := own3.form
  go_wp2_with (at_builtin; refine wpList_append_G _ rfl _ _ 22 22 rfl w7.heap.size 5 i0 _ 1 1 Try.underlying22 hi hz0 hz1 hz2 rfl _ 1 (Lib.byteCells [x]) rfl ?own _ len1 (Lib.byteCells lb) rfl ?src ?c1 ?c2 ?c3 ?_)
  case own => exact OwnsG.made w7 w7.heap.size rfl _ [x] 1 w7.heap.size rfl HCX.out (by decide) (Nat.le_refl _)
  case src => exact src_at (((bb.kept hb4).kept B7).kept ((Below.refl _ w7).alloc (Nat.le_refl _) _)) HLB.out
  case c1 => unfold maxLen; omega
  case c2 => omega
  case c3 => simp
  intro v4 w8 own4 gr4 hat4
  have hs8 := gr4.size
  simp at hs8
  have B78 : Below w7.heap.size w7 w8 := ((Below.refl _ w7).alloc (Nat.le_refl _) _).grown gr4 (by simp) (fun k hk => by simp [Value.ownBlock] at hk; omega)
  obtain ⟨x4, cap4, rfl, -, -⟩ := own4.form
  -- what the three rows hold, in every later world
  have base8 : Below w4.heap.size w4 w8 := B7.trans (B78.mono B7.size)
  have kA : IsBytes w8 (.slice a0 len0 cap0) la := (ba.kept hb4).kept base8
  have kB : IsBytes w8 (.slice a1 len1 cap1) lb := (bb.kept hb4).kept base8
  have kAll : IsBytes w8 (.slice x3 (len0 + 1 + len1) cap3) (la ++ x :: lb) := by
    have e : (la ++ x :: lb).length = len0 + 1 + len1 := by rw [List.length_append, List.length_cons, HLA.out, HLB.out]; omega
    have : IsBytes w7 (.slice x3 (len0 + 1 + len1) cap3) (la ++ x :: lb) := by
      refine OwnsG.isBytes (base := w4.heap.size) ?_
      rw [e]
      have e2 : Lib.byteCells (la ++ x :: lb) = Lib.byteCells [] ++ Lib.byteCells la ++ Lib.byteCells [x] ++ Lib.byteCells lb := by simp [Lib.byteCells]
      rw [e2]; first | exact own3 | simpa using own3
    exact this.kept B78
  have kT : IsBytes w8 (.slice x4 (1 + len1) cap4) (x :: lb) := by
    have e : (x :: lb).length = 1 + len1 := by rw [List.length_cons, HLB.out]; omega
    refine OwnsG.isBytes (base := w7.heap.size) ?_
    rw [e]
    have e2 : Lib.byteCells (x :: lb) = Lib.byteCells [x] ++ Lib.byteCells lb := by simp [Lib.byteCells]
    rw [e2]; exact own4
  obtain ⟨A, hA, lA, sA⟩ := named (dec la)
  obtain ⟨T, hT, lT, sT⟩ := named (dec (x :: lb))
  have hAll : (⟨(dec (la ++ x :: lb)).toArray⟩ : ByteArray) = A ++ T := list_str (by
    rw [app_list, lA, lT, parts_dec la (x :: lb) (.inr hx128), dec_plain (x :: lb) (low_head x lb hx128)])
  have hsum : A.size + T.size ≤ 3000 := by
    have h1 := dec_len la
    have h2 := dec_len (x :: lb)
    rw [HLA.out] at h1
    rw [List.length_cons, HLB.out] at h2
    rw [sA, sT]; omega
  have cAll : Hid (∀ w', Below w8.heap.size w8 w' → Calls Try.prog 11 #[.slice x3 (len0 + 1 + len1) cap3] w' fun e w'' => e = .returned (.string (A ++ T)) ∧ Below w8.heap.size w8 w'') := Lib.hid (fun w' hb => by
    refine (decode_any _ _ w' (kAll.kept hb) (by rw [List.length_append, List.length_cons, HLA.out, HLB.out]; omega)).mono ?_
    rintro e w'' ⟨rfl, hb''⟩
    exact ⟨by rw [hAll], hb.trans (hb''.mono hb.size)⟩)
  have cA : Hid (∀ w', Below w8.heap.size w8 w' → Calls Try.prog 11 #[.slice a0 len0 cap0] w' fun e w'' => e = .returned (.string A) ∧ Below w8.heap.size w8 w'') := Lib.hid (fun w' hb => by
    refine (decode_any _ _ w' (kA.kept hb) (by rw [HLA.out]; omega)).mono ?_
    rintro e w'' ⟨rfl, hb''⟩
    exact ⟨by rw [hA], hb.trans (hb''.mono hb.size)⟩)
  have cT : Hid (∀ w', Below w8.heap.size w8 w' → Calls Try.prog 11 #[.slice x4 (1 + len1) cap4] w' fun e w'' => e = .returned (.string T) ∧ Below w8.heap.size w8 w'') := Lib.hid (fun w' hb => by
    refine (decode_any _ _ w' (kT.kept hb) (by rw [List.length_cons, HLB.out]; omega)).mono ?_
    rintro e w'' ⟨rfl, hb''⟩
    exact ⟨by rw [hT], hb.trans (hb''.mono hb.size)⟩)
  obtain ⟨SA, hSA, lSA, -⟩ := named la
  obtain ⟨SB, hSB, lSB, -⟩ := named lb
  obtain ⟨SC, hSC, lSC, -⟩ := named (la ++ x :: lb)
  have vA : ∀ w', Below w8.heap.size w8 w' → (convert 22 9 (.slice a0 len0 cap0)).run Try.prog w' = .ok (.string SA) w' := fun w' hb => by rw [(kA.kept hb).conv, hSA]
  have vB : ∀ w', Below w8.heap.size w8 w' → (convert 22 9 (.slice a1 len1 cap1)).run Try.prog w' = .ok (.string SB) w' := fun w' hb => by rw [(kB.kept hb).conv, hSB]
  have vC : ∀ w', Below w8.heap.size w8 w' → (convert 22 9 (.slice x3 (len0 + 1 + len1) cap3)).run Try.prog w' = .ok (.string SC) w' := fun w' hb => by rw [(kAll.kept hb).conv, hSC]
  obtain ⟨ra, hra⟩ : ∃ r, Lib.validD la = r := ⟨_, rfl⟩
  obtain ⟨rb, hrb⟩ : ∃ r, Lib.validD lb = r := ⟨_, rfl⟩
  have rC : Hid (∀ w', Below w8.heap.size w8 w' → Calls Try.prog 13 #[.string SC] w' fun e w'' => e = .returned (.bool (ra && rb)) ∧ Below w8.heap.size w8 w'') := Lib.hid (fun w' hb => by
    refine (right_any SC w').mono ?_
    rintro e w'' ⟨rfl, hb''⟩
    exact ⟨by rw [lSC, parts_right la lb x hx128, hra, hrb], hb.trans (hb''.mono hb.size)⟩)
  have rA : Hid (∀ w', Below w8.heap.size w8 w' → Calls Try.prog 13 #[.string SA] w' fun e w'' => e = .returned (.bool ra) ∧ Below w8.heap.size w8 w'') := Lib.hid (fun w' hb => by
    refine (right_any SA w').mono ?_
    rintro e w'' ⟨rfl, hb''⟩
    exact ⟨by rw [lSA, hra], hb.trans (hb''.mono hb.size)⟩)
  have rB : Hid (∀ w', Below w8.heap.size w8 w' → Calls Try.prog 13 #[.string SB] w' fun e w'' => e = .returned (.bool rb) ∧ Below w8.heap.size w8 w'') := Lib.hid (fun w' hb => by
    refine (right_any SB w').mono ?_
    rintro e w'' ⟨rfl, hb''⟩
    exact ⟨by rw [lSB, hrb], hb.trans (hb''.mono hb.size)⟩)
  have B8 : Below w.heap.size w w8 := hb4.trans (base8.mono hs4)
  have hd8 : Below w8.heap.size w8 w8.drew := (Below.refl _ w8).drew
  have fin : ∀ w', Below w8.heap.size w8 w' → Below w.heap.size w w' := fun w' h => B8.trans (h.mono B8.size)
  have FIN := Lib.hid fin
  clear fin B8 hra hrb lSA lSB lSC hSA hSB hSC hAll hA lA sA hT lT sT kA kB kAll kT own1 own2 own3 own4 gr1 gr2 gr3 gr4 hat1 hat2 hat3 hat4 B5 B6 B7 B78 base8 lo1 lo2 ba bb hb4 hx HX HLA HLB HCX hs4 hs5 hs6 hs7 hs8
  go_wp2_with (fail)
  have keepS : ∀ w', Below w8.heap.size w8 w' → Below w8.heap.size w8 w' ∧ (convert 22 9 (.slice a0 len0 cap0)).run Try.prog w' = .ok (.string SA) w' ∧
      (convert 22 9 (.slice a1 len1 cap1)).run Try.prog w' = .ok (.string SB) w' ∧ (convert 22 9 (.slice x3 (len0 + 1 + len1) cap3)).run Try.prog w' = .ok (.string SC) w' := fun w' h => ⟨h, vA _ h, vB _ h, vC _ h⟩
  have KS := Lib.hid keepS
  have hadd := fun w' => run_string_add_sum (P := Try.prog) w' A T (by omega)
  clear keepS
  cases ra with
  | true =>
    clear vA vB vC
    cases rb
    all_goals
      first
        | go_region_held3 (fun w' => Below w8.heap.size w8 w' ∧ (convert 22 9 (.slice a0 len0 cap0)).run Try.prog w' = .ok (.string SA) w' ∧
            (convert 22 9 (.slice a1 len1 cap1)).run Try.prog w' = .ok (.string SB) w' ∧ (convert 22 9 (.slice x3 (len0 + 1 + len1) cap3)).run Try.prog w' = .ok (.string SC) w')
            (exact KS.out _ ‹_›)
            (first
              | (go_at_call 11; (with_reducible refine (cAll.out _ ‹_›).mono ?_); rintro e w' ⟨rfl, hb⟩)
              | (go_at_call 11; (with_reducible refine (cA.out _ ‹_›).mono ?_); rintro e w' ⟨rfl, hb⟩)
              | (go_at_call 11; (with_reducible refine (cT.out _ ‹_›).mono ?_); rintro e w' ⟨rfl, hb⟩)
              | (go_at_call 13; (with_reducible refine (rC.out _ ‹_›).mono ?_); rintro e w' ⟨rfl, hb⟩)
              | (go_at_call 13; (with_reducible refine (rA.out _ ‹_›).mono ?_); rintro e w' ⟨rfl, hb⟩)
              | (go_at_call 13; (with_reducible refine (rB.out _ ‹_›).mono ?_); rintro e w' ⟨rfl, hb⟩))
        | fail
      all_goals (go_wp2; go_ret; exact ⟨rfl, FIN.out _ ‹_›⟩)
  | false =>
    first
      | go_region_with (first
          | (go_at_call 11; (with_reducible refine (cAll.out _ ‹_›).mono ?_); rintro e w' ⟨rfl, hb⟩)
          | (go_at_call 11; (with_reducible refine (cA.out _ ‹_›).mono ?_); rintro e w' ⟨rfl, hb⟩)
          | (go_at_call 11; (with_reducible refine (cT.out _ ‹_›).mono ?_); rintro e w' ⟨rfl, hb⟩)
          | (go_at_call 13; (with_reducible refine (rC.out _ ‹_›).mono ?_); rintro e w' ⟨rfl, hb⟩)
          | (go_at_call 13; (with_reducible refine (rA.out _ ‹_›).mono ?_); rintro e w' ⟨rfl, hb⟩)
          | (go_at_call 13; (with_reducible refine (rB.out _ ‹_›).mono ?_); rintro e w' ⟨rfl, hb⟩))
      | fail
    all_goals (go_wp2; go_ret; exact ⟨rfl, FIN.out _ ‹_›⟩)

set_option maxRecDepth 100000 in
theorem lifted (os : Os) (started : os.Started) (H : Type) (enc : TypeId × Value → H) :
    ReturnsInHanded {} Try.checked os 7 .any (Rows.utfPartsSpec.pre6 enc Try.prog Try.f7 Rows.utfPartsRow.domain false) (Rows.utfPartsSpec.post enc Try.prog Try.f7 false true false false) := by
  refine returnsInHanded_of_change (C := Try.checked) own started (by kernel_rfl) Try.func7
    (ChangeSpec.witness6 (enc := enc) (C := Try.checked) false ⟨#[], #[.slice none 0 0, .slice none 0 0, .int .u8 0], []⟩ 8 (by kernel_rfl) (by kernel_rfl) (by kernel_rfl) (by kernel_rfl)) ?_
  intro W base args ds gs before hval0 hW hcnd _
  have hval : ∀ (j : Nat) t v, Try.f7.params[j]? = some t → args[j]? = some v → Value.okWide Try.prog W .any base t v := hval0
  have hW' := hW
  obtain ⟨p, q, hA0, hV, rfl, hfz, hnd⟩ := hW
  have hA : DataW.TrodAll enc Try.prog W 0 (fun _ => true) true Try.f7.params.toList args.toList ds p := hA0
  rw [Try.params7] at hA hval
  obtain ⟨v0, vs0, d0, ds0, p0, q0, hargs, rfl, rfl, h0, r0⟩ := trodAll_cons hA
  obtain ⟨v1, vs1, d1, ds1, p1, q1, rfl, rfl, rfl, h1, r1⟩ := trodAll_cons r0
  obtain ⟨v2, vs2, d2, ds2, p2, q2, rfl, rfl, rfl, h2, r2⟩ := trodAll_cons r1
  obtain ⟨rfl, rfl, rfl⟩ := trodAll_nil r2
  obtain rfl : args = #[v0, v1, v2] := by cases args; simp_all
  obtain ⟨rfl, rfl⟩ := trodVars_none hV
  obtain ⟨a0, len0, cap0, rfl⟩ := okWide_slice Try.underlying22 (hval 0 22 v0 rfl rfl)
  have k0 := h0
  have lt0 : ∀ x ∈ p0, x.block < W.heap.size := by obtain ⟨m, hm⟩ := k0; exact DataW.trod_lt m _ _ _ hm
  obtain ⟨z0, w0⟩ : ∃ zs, IsRow .u8 W a0 len0 cap0 zs := by
    obtain ⟨fuel, hf⟩ := h0
    rcases open_ints Try.underlying22 Try.underlying5 (by kernel_rfl) hf with ⟨hcs, _⟩ | ⟨x, l, c, zs, hcs, _, hl, hm, hz, _, hcell, hwz⟩
    · simp [Value.cells] at hcs
      obtain ⟨rfl, rfl, rfl⟩ := hcs
      exact ⟨[], .inl ⟨rfl, rfl, rfl, rfl⟩⟩
    · simp [Value.cells] at hcs
      obtain ⟨rfl, rfl, rfl⟩ := hcs
      exact ⟨zs, .inr ⟨_, rfl, hl, hm, by simpa using hz, hcell, hwz⟩⟩
  obtain ⟨a1, len1, cap1, rfl⟩ := okWide_slice Try.underlying22 (hval 1 22 v1 rfl rfl)
  have k1 := h1
  have lt1 : ∀ x ∈ p1, x.block < W.heap.size := by obtain ⟨m, hm⟩ := k1; exact DataW.trod_lt m _ _ _ hm
  obtain ⟨z1, w1⟩ : ∃ zs, IsRow .u8 W a1 len1 cap1 zs := by
    obtain ⟨fuel, hf⟩ := h1
    rcases open_ints Try.underlying22 Try.underlying5 (by kernel_rfl) hf with ⟨hcs, _⟩ | ⟨x, l, c, zs, hcs, _, hl, hm, hz, _, hcell, hwz⟩
    · simp [Value.cells] at hcs
      obtain ⟨rfl, rfl, rfl⟩ := hcs
      exact ⟨[], .inl ⟨rfl, rfl, rfl, rfl⟩⟩
    · simp [Value.cells] at hcs
      obtain ⟨rfl, rfl, rfl⟩ := hcs
      exact ⟨zs, .inr ⟨_, rfl, hl, hm, by simpa using hz, hcell, hwz⟩⟩
  obtain ⟨a2, rfl, rfl, rfl, w2⟩ := open_int Try.underlying5 (hval 2 5 v2 rfl rfl) h2
  clear hA0 hval0
  refine (walk a0 len0 cap0 z0 a1 len1 cap1 z1 a2 W w0 w1 w2).mono fun e W' ⟨he, bel⟩ => ?_
  subst he
  exact ⟨_, rfl, _, _, _, [], _, [], hW', trodAll_mk1 (shut_bool Try.underlying4 _), (trodAll_cons_mk (Below.trod laidOut (by kernel_rfl) (of_decide_eq_true (by kernel_rfl)) k0 bel lt0) (trodAll_cons_mk (Below.trod laidOut (by kernel_rfl) (of_decide_eq_true (by kernel_rfl)) k1 bel lt1) (trodAll_cons_mk (shut_int Try.underlying5 w2) trodAll_mk0))), rfl, bel.frame _, fun h => by cases h⟩

theorem over : Rows.utfPartsRow.holds Try.pinned (OpenSpec.ofChange Rows.utfPartsSpec) :=
  OpenClaim.holds_of_wide 7 Try.f7 rfl rfl rfl rfl rfl rfl rfl ⟨rfl, rfl, rfl, rfl, rfl⟩ rfl rfl rfl rfl rfl (by kernel_rfl) Try.func7 (by kernel_rfl)
    (of_decide_eq_true (by kernel_rfl)) (by unfold Func.isWrapper; first | (rw [if_pos (by decide +kernel)]; kernel_rfl) | (rw [if_neg (by decide +kernel)]; exact ⟨rfl, rfl⟩))
    (fun os started H enc _ => lifted os started H enc)

/-- ████ THE STATEMENT ████ -/
theorem proved : Rows.UtfPartsSaid := over
end Go.Proofs.Ytafghfljbelgdaa.utfParts
