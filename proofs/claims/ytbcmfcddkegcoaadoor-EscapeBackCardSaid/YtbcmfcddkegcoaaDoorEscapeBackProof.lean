/-
  The law EscapeBack of flail/flaillaw21 answers true for every input, and changes nothing that was there. Condition, which the card ties to the program's text: when the call begins, the package variables that the row lists hold what that text lays in them (math/bits.deBruijn32tab, math/bits.deBruijn64tab, internal/strconv.uint64pow10, strconv.ErrRange, strconv.ErrSyntax, flail/number.others).
-/
import Derived.Test.YtbcmfcddkegcoaaDoorRows
import Derived.Test.YtbcmfcddkegcoaaDoorEscAwake
import Derived.Test.YtbcmfcddkegcoaaDoorEscRef
import Derived.Test.YtbcmfcddkegcoaaDoorUtfRow
import Derived.Test.YtbcmfcddkegcoaaDoorP4
import Derived.Test.YtbcmfcddkegcoaaDoorP6
import Derived.Test.YtbcmfcddkegcoaaDoorCards
import Derived.WalkKit
import Derived.ProofKit
import Derived.ChangeOld
import Derived.Below
import Derived.OpenShut
import Derived.ShutString
namespace Go.Proofs.YtbcmfcddkegcoaaDoor.escapeBack
open Go.ChangeShapes Go.WideShapes Go.ChangeAt Go.RowKit
open Go.ChangeMaps (open_string shut_string)
set_option linter.unusedVariables false      -- a walk need not use every 'w<i>' (that an integer argument fits its kind)

theorem own : ownKnob Tryd.prog.godebug = none := by kernel_rfl

set_option maxRecDepth 100000 in
set_option maxHeartbeats 8000000 in
theorem walk (a0 : Int) (a1 : ByteArray) (a2 : Bool) (w0 : (Lit.int .u8 a0).wf = true) (w1 : a1.size ≤ maxLen) (w : World) (hT : LaidAt w) :
    Calls Tryd.prog 3 #[.int .u8 a0, .string a1, .bool a2] w fun e w' => e = .returned (.bool true) ∧ Below w.heap.size w w' := by
  have hb0 : 0 ≤ a0 ∧ a0 ≤ 255 := by simpa [Lit.wf, IntKind.min, IntKind.max, IntKind.signed, IntKind.bits] using w0
  obtain ⟨h00, h01⟩ := hb0
  clear w0 w1
  have HW := Lib.hid hT
  clear hT
  by_cases hlen : 300 < a1.size
  · go_enter Tryd.func3, Tryd.ntmps3
    go_wp2_with (go_at_call 4; refine (escAwake_any w).mono ?_; rintro e w1 ⟨rfl, hb1⟩)
    go_ret
    exact ⟨rfl, hb1⟩
  have hs1 : a1.size ≤ 300 := by omega
  obtain ⟨k, hk⟩ : ∃ k : Nat, a0 % 3 = (k : Int) := ⟨(a0 % 3).toNat, by omega⟩
  have hk2 : k ≤ 2 := by omega
  have H1 := fun w => Lib.hid (escEnc_any (k : Int) a1 w (by omega) (by omega))
  have H2 := fun w => Lib.hid (clean_any a1 w (by omega))
  have hd := dd_encD a2 (k : Int) (by omega) a1.data.toList
  have hln := encD_len (k : Int) a1.data.toList
  obtain ⟨T, hT, lT, sT⟩ := named21 (encD (k : Int) a1.data.toList)
  rw [hT] at H1
  rw [← lT] at hd
  rw [← sT, ← Lib.size_eq] at hln
  have hcl := (cleanL_len a1.data.toList).2
  obtain ⟨C, hC, lC, sC⟩ := named21 (cleanL a1.data.toList)
  rw [hC] at H2
  rw [← sC, ← Lib.size_eq] at hcl
  rw [← lC] at hd
  have H3 := fun w (h : LaidAt w) => Lib.hid (decode_any T a2 w (by omega) h.tab h.err)
  rw [hd] at H3
  have p1 : ¬ 9223372036854775807 < 1 + C.size := by omega
  clear hT lT sT hlen hd hln hcl hC lC sC
  by_cases hk3 : k = 2
  · subst hk3
    have HB := fun w => Lib.hid (begins_any a1 ⟨#[10]⟩ w)
    cases hp : Lib.hasPrefix a1.data.toList (ByteArray.mk #[10]).data.toList with
    | true =>
      rw [hp] at HB
      have hh : a1.data.toList.head? = some 10 := by
        obtain ⟨u, hu⟩ := List.isPrefixOf_iff_prefix.1 hp
        rw [← hu]; rfl
      have he : (⟨((if ((2 : Nat) : Int) = 2 ∧ a1.data.toList.head? = some 10 then [10] else []) ++ C.data.toList).toArray⟩ : ByteArray) = ⟨#[10]⟩ ++ C := by
        rw [if_pos ⟨rfl, hh⟩]; exact str_ext (by rw [List.toList_toArray]; simp [ByteArray.data_append])
      rw [he] at H3
      clear hp hh he
      go_enter Tryd.func3, Tryd.ntmps3
      go_wp2_with (fail)
      refine (escAwake_any w).mono ?_
      rintro e w1 ⟨rfl, c1⟩
      have B1 := Lib.hid c1
      clear c1
      go_wp2_with (fail)
      refine (H2 _).out.mono ?_
      rintro e w2 ⟨rfl, c2⟩
      have B2 := Lib.hid (B1.out.trans (c2.mono B1.out.size))
      clear c2
      go_wp2_with (fail)
      refine (HB _).out.mono ?_
      rintro e w3 ⟨rfl, rfl⟩
      go_wp2_with (fail)
      refine (H1 _).out.mono ?_
      rintro e w4 ⟨rfl, c4⟩
      have B4 := Lib.hid (B2.out.trans (c4.mono B2.out.size))
      clear c4
      go_wp2_with (fail)
      refine (H3 _ (HW.out.below B4.out)).out.mono ?_
      rintro e w5 ⟨rfl, c5⟩
      have B5 := Lib.hid (B4.out.trans (c5.mono B4.out.size))
      clear c5
      go_wp2
      go_ret
      exact ⟨ret_bool (by simp), B5.out⟩
    | false =>
      rw [hp] at HB
      have he : (⟨((if ((2 : Nat) : Int) = 2 ∧ a1.data.toList.head? = some 10 then [10] else []) ++ C.data.toList).toArray⟩ : ByteArray) = C := by
        rw [if_neg (fun e => by
          cases hl : a1.data.toList with
          | nil => rw [hl] at e; cases e.2
          | cons c t =>
            rw [hl] at e hp
            have h10 : c = 10 := by simpa using e.2
            rw [h10] at hp
            exact absurd hp (by simp [Lib.hasPrefix, List.isPrefixOf]))]
        exact str_ext (by rw [List.toList_toArray]; rfl)
      rw [he] at H3
      clear hp he
      go_enter Tryd.func3, Tryd.ntmps3
      go_wp2_with (fail)
      refine (escAwake_any w).mono ?_
      rintro e w1 ⟨rfl, c1⟩
      have B1 := Lib.hid c1
      clear c1
      go_wp2_with (fail)
      refine (H2 _).out.mono ?_
      rintro e w2 ⟨rfl, c2⟩
      have B2 := Lib.hid (B1.out.trans (c2.mono B1.out.size))
      clear c2
      go_wp2_with (fail)
      refine (HB _).out.mono ?_
      rintro e w3 ⟨rfl, rfl⟩
      go_wp2_with (fail)
      refine (H1 _).out.mono ?_
      rintro e w4 ⟨rfl, c4⟩
      have B4 := Lib.hid (B2.out.trans (c4.mono B2.out.size))
      clear c4
      go_wp2_with (fail)
      refine (H3 _ (HW.out.below B4.out)).out.mono ?_
      rintro e w5 ⟨rfl, c5⟩
      have B5 := Lib.hid (B4.out.trans (c5.mono B4.out.size))
      clear c5
      go_wp2
      go_ret
      exact ⟨ret_bool (by simp), B5.out⟩
  · have hke : ((k : Int) == 2) = false := beq_eq_false_iff_ne.2 (by omega)
    have he : (⟨((if (k : Int) = 2 ∧ a1.data.toList.head? = some 10 then [10] else []) ++ C.data.toList).toArray⟩ : ByteArray) = C := by
      rw [if_neg (fun e => by have := e.1; omega)]
      exact str_ext (by rw [List.toList_toArray]; rfl)
    rw [he] at H3
    clear he hk3
    go_enter Tryd.func3, Tryd.ntmps3
    go_wp2_with (fail)
    refine (escAwake_any w).mono ?_
    rintro e w1 ⟨rfl, c1⟩
    have B1 := Lib.hid c1
    clear c1
    go_wp2_with (fail)
    refine (H2 _).out.mono ?_
    rintro e w2 ⟨rfl, c2⟩
    have B2 := Lib.hid (B1.out.trans (c2.mono B1.out.size))
    clear c2
    go_wp2_with (fail)
    refine (H1 _).out.mono ?_
    rintro e w4 ⟨rfl, c4⟩
    have B4 := Lib.hid (B2.out.trans (c4.mono B2.out.size))
    clear c4
    go_wp2_with (fail)
    refine (H3 _ (HW.out.below B4.out)).out.mono ?_
    rintro e w5 ⟨rfl, c5⟩
    have B5 := Lib.hid (B4.out.trans (c5.mono B4.out.size))
    clear c5
    go_wp2
    go_ret
    exact ⟨ret_bool (by simp), B5.out⟩
  -- go_wp2
  -- go_ret
  -- exact ⟨rfl, by repeat (first | exact Grown.refl _ | apply Grown.drew | apply Grown.alloc)⟩

theorem laid_met (os : Os) : laidMet Tryd.prog Rows.escapeBackRow.laid ((laidWorld os).forCall (fun _ _ => 0) ⟨#[], #[.int .u8 0, .string ByteArray.empty, .bool false], []⟩).memory :=
  laidMet_of_run' 8 (by kernel_rfl) (by kernel_rfl)
theorem reads (os : Os) {H : Type} (enc : TypeId × Value → H) : ∃ places, DataW.whole enc Tryd.prog ((laidWorld os).forCall (fun _ _ => 0) ⟨#[], #[.int .u8 0, .string ByteArray.empty, .bool false], []⟩).memory Tryd.f3.params.toList Rows.escapeBackSpec.vars false (#[.int .u8 0, .string ByteArray.empty, .bool false] : Array Value).toList 8 = some ([.lit (.int .u8 0), .lit (.string []), .lit (.bool false)], [], places) :=
  ⟨[], by kernel_rfl⟩
set_option maxRecDepth 100000 in
theorem lifted (os : Os) (started : os.Started) (H : Type) (enc : TypeId × Value → H) (F : Stop.Interp) :
    ReturnsInHanded {} Tryd.checked os 3 .any ((OpenSpec.ofChange Rows.escapeBackSpec).preRow enc Tryd.prog Tryd.f3 Rows.escapeBackRow.domain false Rows.escapeBackRow.laid) (((OpenSpec.ofChange Rows.escapeBackSpec).at F).post enc Tryd.prog Tryd.f3 false true false false) := by
  obtain ⟨places, hx⟩ := reads os enc
  refine returnsInHanded_of_row (C := Tryd.checked) (s := OpenSpec.ofChange Rows.escapeBackSpec) own started (by kernel_rfl) Tryd.func3
    (witness_row_at (enc := enc) (C := Tryd.checked) false (laidWorld os) #[.int .u8 0, .string ByteArray.empty, .bool false] rfl (by kernel_rfl) (by kernel_rfl) (by kernel_rfl)
      (OpenSpec.preRow_of_cond 8 hx (by kernel_rfl) (fun k hk => by cases hk) (by kernel_rfl) (laid_met os))) ?_
  intro W base args ds gs before hval0 hW _ _ _ hL hsh _
  have hval : ∀ (j : Nat) t v, Tryd.f3.params[j]? = some t → args[j]? = some v → Value.okWide Tryd.prog W .any base t v := hval0
  have hW' := hW
  obtain ⟨p, q, hA0, hV, rfl, hfz, hnd⟩ := hW
  have hA : DataW.TrodAll enc Tryd.prog W 0 (fun _ => true) true Tryd.f3.params.toList args.toList ds p := hA0
  rw [Tryd.params3] at hA hval
  obtain ⟨v0, vs0, d0, ds0, p0, q0, hargs, rfl, rfl, h0, r0⟩ := trodAll_cons hA
  obtain ⟨v1, vs1, d1, ds1, p1, q1, rfl, rfl, rfl, h1, r1⟩ := trodAll_cons r0
  obtain ⟨v2, vs2, d2, ds2, p2, q2, rfl, rfl, rfl, h2, r2⟩ := trodAll_cons r1
  obtain ⟨rfl, rfl, rfl⟩ := trodAll_nil r2
  obtain rfl : args = #[v0, v1, v2] := by cases args; simp_all
  obtain ⟨rfl, rfl⟩ := trodVars_none hV
  obtain ⟨a0, rfl, rfl, rfl, w0⟩ := open_int Tryd.underlying5 (hval 0 5 v0 rfl rfl) h0
  obtain ⟨a1, rfl, rfl, rfl, w1⟩ := open_string Tryd.underlying9 (hval 1 9 v1 rfl rfl) h1
  obtain ⟨a2, rfl, rfl, rfl⟩ := open_bool Tryd.underlying4 (hval 2 4 v2 rfl rfl) h2
  clear hA0 hval0
  refine (walk a0 a1 a2 w0 w1 W (tabAt_of hL hsh)).mono fun e W' ⟨he, bel⟩ => ?_
  subst he
  exact ⟨_, rfl, _, _, _, [], _, [], hW', trodAll_mk1 (shut_bool Tryd.underlying4 _), (trodAll_cons_mk (shut_int Tryd.underlying5 w0) (trodAll_cons_mk (shut_string Tryd.underlying9 w1) (trodAll_cons_mk (shut_bool Tryd.underlying4 _) trodAll_mk0))), rfl, bel.frame _, fun h => by cases h⟩

theorem said : Rows.EscapeBackSaid :=
  OpenClaim.holds_of_cond 3 Tryd.f3 rfl rfl rfl rfl rfl rfl rfl ⟨rfl, rfl, rfl, rfl, rfl⟩ rfl rfl rfl rfl rfl (by kernel_rfl) Tryd.func3 (by kernel_rfl)
    (of_decide_eq_true (by kernel_rfl)) (by unfold Func.isWrapper; first | (rw [if_pos (by decide +kernel)]; kernel_rfl) | (rw [if_neg (by decide +kernel)]; exact ⟨rfl, rfl⟩))
    (fun os started H enc _ F => by rw [OpenClaim.pre_eq_preRow]; exact lifted os started H enc F)
theorem plain (f : FuncId) (fn : Func) (hf : Tryd.pinned.checked.prog.funcNamed "flail/flaillaw21.EscapeBack" = some f) (hfn : Tryd.pinned.checked.prog.funcs[f]? = some fn) :
    true = Tryd.pinned.checked.prog.looks [] ∧ ∀ (j : Nat) t, fn.params[j]? = some t → Tryd.pinned.checked.prog.wantsStandIn t = false := by
  obtain rfl : f = 3 := Option.some.inj ((show Tryd.prog.funcNamed "flail/flaillaw21.EscapeBack" = some 3 by kernel_rfl).symm.trans hf) |>.symm
  obtain rfl : fn = Tryd.f3 := (Option.some.inj (Tryd.func3.symm.trans hfn)).symm
  refine ⟨by kernel_rfl, fun j t ht => ?_⟩
  rw [Tryd.params3] at ht
  have hm : t ∈ [5, 9, 4] := by first | simpa using Array.mem_of_getElem? ht | (have h := Array.mem_of_getElem? ht; simp at h ⊢; grind)
  have hall : ([5, 9, 4].all fun u => !Tryd.prog.wantsStandIn u) = true := by kernel_rfl
  exact (show Tryd.prog.wantsStandIn t = false by simpa using List.all_eq_true.1 hall t hm)
/-- the statement: the row's card -/
theorem proved : Rows.EscapeBackCardSaid :=
  Claim7.holds_tied_plain_at .later [] _ _ _ _ said (fun _ h => by cases h) (by kernel_rfl) (fun _ h => by cases h) escapeBack_row_tie rfl ⟨rfl, rfl⟩ (by kernel_rfl) rfl plain (by kernel_rfl)
end Go.Proofs.YtbcmfcddkegcoaaDoor.escapeBack
