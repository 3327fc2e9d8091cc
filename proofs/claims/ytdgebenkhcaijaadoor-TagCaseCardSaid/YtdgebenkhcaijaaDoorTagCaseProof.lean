/-
  The law TagCase of flail/flaillaw09 answers true for every input, and changes nothing that was there. Condition, which the card ties to the program's text: when the call begins, the package variables that the row lists hold what that text lays in them (math/bits.deBruijn32tab, math/bits.deBruijn64tab, internal/strconv.uint64pow10, strconv.ErrRange, strconv.ErrSyntax, flail/number.others).
-/
import Derived.Test.YtdgebenkhcaijaaDoorRows
import Derived.Test.YtdgebenkhcaijaaDoorTagAwake
import Derived.Test.YtdgebenkhcaijaaDoorP8
import Derived.Test.YtdgebenkhcaijaaDoorCards
import Derived.Test.YtdgebenkhcaijaaDoorP6
import Derived.WalkKit
import Derived.ProofKit
import Derived.ChangeOld
import Derived.Below
import Derived.OpenShut
import Derived.ShutString
namespace Go.Proofs.YtdgebenkhcaijaaDoor.tagCase
open Go.ChangeShapes Go.WideShapes Go.ChangeAt Go.RowKit
open Go.ChangeMaps (open_string shut_string)
set_option linter.unusedVariables false      -- a walk need not use every 'w<i>' (that an integer argument fits its kind)

theorem own : ownKnob Tryd.prog.godebug = none := by kernel_rfl

theorem case_told (S : ByteArray) : ∃ k nm se x x' l l' n ok, tagV S.data.toList 0 = (⟨k, nm, x, l, se⟩, n, ok) ∧ tagV (lowS S).data.toList 0 = (⟨k, nm, x', l', se⟩, n, ok) ∧ SimN l l' := by
  rw [lowS_list]
  by_cases hb : begT S.data.toList ≠ 0
  · have hb' : begT (lowL S.data.toList) ≠ 0 := by rw [beg_low]; exact hb
    rcases tag_sim S.data.toList with ⟨h1, h2⟩ | ⟨t, t', n, h1, h2, h3⟩
    · refine ⟨0, [], false, [], [], [], [], _, _, tag_none S.data.toList 0 hb h1, ?_, rfl⟩
      have := tag_none (lowL S.data.toList) 0 hb' h2
      rw [lowL_len] at this
      exact this
    · obtain ⟨k, nm, x, l, se⟩ := t
      obtain ⟨k', nm', x', l', se'⟩ := t'
      obtain ⟨rfl, rfl, rfl, h4⟩ := h3
      exact ⟨_, _, _, _, _, _, _, _, _, tag_some S.data.toList 0 hb _ n h1, tag_some (lowL S.data.toList) 0 hb' _ n h2, h4⟩
  · have hb' : ¬ begT (lowL S.data.toList) ≠ 0 := by rw [beg_low]; exact hb
    exact ⟨0, [], false, [], [], [], [], _, _, (tag_out S.data.toList 0 (fun h => hb h.2)).1, (tag_out (lowL S.data.toList) 0 (fun h => hb' h.2)).1, rfl⟩
theorem sim_len {l l' : List Ln} (h : SimN l l') : l'.length = l.length := by
  have := congrArg List.length h
  rw [List.length_map, List.length_map] at this
  exact this.symm
theorem sim_at {l l' : List Ln} (h : SimN l l') (i : Nat) (h1 : i < l.length) (h2 : i < l'.length) : l'[i].1 = l[i].1 := by
  have e1 : (l.map Prod.fst)[i]? = some l[i].1 := by rw [List.getElem?_map, List.getElem?_eq_getElem h1]; rfl
  have e2 : (l'.map Prod.fst)[i]? = some l'[i].1 := by rw [List.getElem?_map, List.getElem?_eq_getElem h2]; rfl
  rw [show l.map Prod.fst = l'.map Prod.fst from h, e2] at e1
  exact Option.some.inj e1
set_option maxRecDepth 100000 in
set_option maxHeartbeats 8000000 in
theorem walk (a0 : ByteArray) (w0 : a0.size ≤ maxLen) (w : World) (hT : LaidAt w) :
    Calls Tryd.prog 6 #[.string a0] w fun e w' => e = .returned (.bool true) ∧ Below w.heap.size w w' := by
  clear w0
  have HW := Lib.hid hT
  clear hT
  by_cases hlen : 300 < a0.size
  · go_enter Tryd.func6, Tryd.ntmps6
    go_wp2_with (fail)
    refine (tagAwake_any w HW.out).mono ?_
    rintro e w1 ⟨rfl, c1⟩
    go_wp2
    go_ret
    exact ⟨rfl, c1⟩
  have hs : a0.size ≤ 300 := by omega
  clear hlen
  have HR1 := fun w h => Lib.hid (tag_any a0 0 w (by omega) (by decide) h)
  have HR2 := fun w h => Lib.hid (tag_any (lowS a0) 0 w (by rw [lowS_size]; omega) (by decide) h)
  have HL := fun w => Lib.hid (lower a0 w (by omega))
  obtain ⟨k, nm, se, x, x', l, l', n, ok, hv1, hv2, hsim⟩ := case_told a0
  have HV1 := Lib.hid hv1
  have HV2 := Lib.hid hv2
  have HS := Lib.hid hsim
  have hll := sim_len hsim
  obtain ⟨A, hA⟩ : ∃ A : ByteArray, lowS a0 = A := ⟨_, rfl⟩
  rw [hA] at HR2 HL HV2
  clear hv1 hv2 hsim hA
  go_enter Tryd.func6, Tryd.ntmps6
  go_wp2_with (fail)
  refine (tagAwake_any w HW.out).mono ?_
  rintro e w1 ⟨rfl, c1⟩
  go_wp2_with (fail)
  refine (HR1 _ (HW.out.below c1)).out.mono ?_
  rintro e w2 ⟨t, ad, len, cap, n', ok', rfl, hr, hv, b2⟩
  rw [HV1.out] at hv
  simp only [Prod.mk.injEq] at hv
  obtain ⟨rfl, rfl, rfl⟩ := hv
  have C2 := Lib.hid (c1.trans (b2.mono c1.size))
  have K2 := Lib.hid hr
  have el := hr.1
  clear hr b2
  unfold tokA
  go_wp2_with (fail)
  have B3 := Lib.hid (below_new C2.out (.cells #[.int .i64 k, .string ⟨nm.toArray⟩, .string ⟨x.toArray⟩, .slice ad len cap, .bool se] 26))
  refine (HL _).out.mono ?_
  rintro e w3 ⟨rfl, b3⟩
  have T3 := Lib.hid ((tokAt_new w2 ⟨k, nm, x, l, se⟩ ad len cap 26).below b3 (by simp))
  have D3 := Lib.hid (((Below.refl w2.heap.size w2).alloc (Nat.le_refl _) _).trans (b3.mono (by simp)))
  have hlt : w2.heap.size < w3.heap.size := by have := b3.size; simp at this; omega
  have B4 := Lib.hid (B3.out.trans (b3.mono B3.out.size))
  clear b3
  go_wp2_with (fail)
  refine (HR2 _ (HW.out.below B4.out)).out.mono ?_
  rintro e w4 ⟨t, ad2, len2, cap2, n', ok', rfl, hr, hv, b4⟩
  rw [HV2.out] at hv
  simp only [Prod.mk.injEq] at hv
  obtain ⟨rfl, rfl, rfl⟩ := hv
  have K4 := Lib.hid hr
  have el2 := hr.1
  have D4 := Lib.hid (D3.out.trans (b4.mono D3.out.size))
  have B5 := Lib.hid (B4.out.trans (b4.mono B4.out.size))
  have hlt4 : w2.heap.size < w4.heap.size := Nat.lt_of_lt_of_le hlt b4.size
  obtain ⟨x0, x1, x2, x3, x4⟩ := (T3.out.below b4 hlt).below ((Below.refl w4.heap.size w4).alloc (Nat.le_refl _) (.cells #[.int .i64 k, .string ⟨nm.toArray⟩, .string ⟨x'.toArray⟩, .slice ad2 len2 cap2, .bool se] 26)) hlt4
  clear hr b4
  unfold tokA
  simp only at el el2 x0 x1 x2 x3 x4
  rw [hll, el] at el2
  subst el2
  have ml := K2.out.2.1
  have ml2 := K2.out.2.2.1
  unfold maxLen at ml2
  go_wp2_with (fail)
  have Y := Lib.hid (tokAt_new w4 ⟨k, nm, x', l', se⟩ ad2 len cap2 26)
  have K2 := Lib.hid ((K2.out.below D4.out (Nat.le_refl _)).below ((Below.refl w4.heap.size w4).alloc (Nat.le_refl _) (.cells #[.int .i64 k, .string ⟨nm.toArray⟩, .string ⟨x'.toArray⟩, .slice ad2 len cap2, .bool se] 26)) (Nat.le_refl _))
  have K4 := Lib.hid (K4.out.below ((Below.refl w4.heap.size w4).alloc (Nat.le_refl _) (.cells #[.int .i64 k, .string ⟨nm.toArray⟩, .string ⟨x'.toArray⟩, .slice ad2 len cap2, .bool se] 26)) (Nat.le_refl _))
  have B6 := Lib.hid (below_new B5.out (.cells #[.int .i64 k, .string ⟨nm.toArray⟩, .string ⟨x'.toArray⟩, .slice ad2 len cap2, .bool se] 26))
  obtain ⟨W, hW⟩ : ∃ W, w4.alloc (.cells #[.int .i64 k, .string ⟨nm.toArray⟩, .string ⟨x'.toArray⟩, .slice ad2 len cap2, .bool se] 26) = W := ⟨_, rfl⟩
  have Y := Y.out
  rw [hW] at x0 x1 x2 x3 x4 Y K2 K4 B6 ⊢
  obtain ⟨y0, y1, y2, y3, y4⟩ := Y
  simp only at y0 y1 y2 y3 y4
  clear hW T3 D3 D4 B3 B4 B5 C2 c1
  go_loopw [10] (fun v wr => ∃ i d : Nat, v = .int .i64 (i : Int) ∧ wr = W.drewN d ∧ i ≤ len) (fun v _ => len - (intOf v).toNat)
  case atStart => exact ⟨0, 0, rfl, rfl, Nat.zero_le _⟩
  case round =>
    obtain ⟨i, d, rfl, rfl, hi⟩ := hrel
    by_cases hlt : i < len
    · have g1 : i < l.length := by have := K2.out.1; omega
      have g2 : i < l'.length := by omega
      obtain ⟨p, rfl, p1, -⟩ := K2.out.2.2.2 i g1
      obtain ⟨q, rfl, q1, -⟩ := K4.out.2.2.2 i g2
      have he := sim_at HS.out i g1 g2
      rw [he] at q1
      obtain ⟨N, hN⟩ : ∃ N, l[i].1 = N := ⟨_, rfl⟩
      rw [hN] at p1 q1
      unfold strV at p1 q1
      clear he hN
      go_wp2_with (fail)
      go_region
      go_wp2
      go_roundw
      case rel => exact ⟨i + 1, _, by simp, rfl, by omega⟩
      case measure => simp [intOf]; omega
    · go_wp2
      go_ret
      exact ⟨rfl, B6.out.trans (dr_below _ _ _)⟩
  -- go_wp2
  -- go_ret
  -- exact ⟨rfl, by repeat (first | exact Grown.refl _ | apply Grown.drew | apply Grown.alloc)⟩

theorem laid_met (os : Os) : laidMet Tryd.prog Rows.tagCaseRow.laid ((laidWorld os).forCall (fun _ _ => 0) ⟨#[], #[.string ByteArray.empty], []⟩).memory :=
  laidMet_of_run' 8 (by kernel_rfl) (by kernel_rfl)
theorem reads (os : Os) {H : Type} (enc : TypeId × Value → H) : ∃ places, DataW.whole enc Tryd.prog ((laidWorld os).forCall (fun _ _ => 0) ⟨#[], #[.string ByteArray.empty], []⟩).memory Tryd.f6.params.toList Rows.tagCaseSpec.vars false (#[.string ByteArray.empty] : Array Value).toList 8 = some ([.lit (.string [])], [], places) :=
  ⟨[], by kernel_rfl⟩
set_option maxRecDepth 100000 in
theorem lifted (os : Os) (started : os.Started) (H : Type) (enc : TypeId × Value → H) (F : Stop.Interp) :
    ReturnsInHanded {} Tryd.checked os 6 .any ((OpenSpec.ofChange Rows.tagCaseSpec).preRow enc Tryd.prog Tryd.f6 Rows.tagCaseRow.domain false Rows.tagCaseRow.laid) (((OpenSpec.ofChange Rows.tagCaseSpec).at F).post enc Tryd.prog Tryd.f6 false true false false) := by
  obtain ⟨places, hx⟩ := reads os enc
  refine returnsInHanded_of_row (C := Tryd.checked) (s := OpenSpec.ofChange Rows.tagCaseSpec) own started (by kernel_rfl) Tryd.func6
    (witness_row_at (enc := enc) (C := Tryd.checked) false (laidWorld os) #[.string ByteArray.empty] rfl (by kernel_rfl) (by kernel_rfl) (by kernel_rfl)
      (OpenSpec.preRow_of_cond 8 hx (by kernel_rfl) (fun k hk => by cases hk) (by kernel_rfl) (laid_met os))) ?_
  intro W base args ds gs before hval0 hW _ _ _ hL _ _
  have hval : ∀ (j : Nat) t v, Tryd.f6.params[j]? = some t → args[j]? = some v → Value.okWide Tryd.prog W .any base t v := hval0
  have hW' := hW
  obtain ⟨p, q, hA0, hV, rfl, hfz, hnd⟩ := hW
  have hA : DataW.TrodAll enc Tryd.prog W 0 (fun _ => true) true Tryd.f6.params.toList args.toList ds p := hA0
  rw [Tryd.params6] at hA hval
  obtain ⟨v0, vs0, d0, ds0, p0, q0, hargs, rfl, rfl, h0, r0⟩ := trodAll_cons hA
  obtain ⟨rfl, rfl, rfl⟩ := trodAll_nil r0
  obtain rfl : args = #[v0] := by cases args; simp_all
  obtain ⟨rfl, rfl⟩ := trodVars_none hV
  obtain ⟨a0, rfl, rfl, rfl, w0⟩ := open_string Tryd.underlying9 (hval 0 9 v0 rfl rfl) h0
  clear hA0 hval0
  refine (walk a0 w0 W (tabAt_of hL)).mono fun e W' ⟨he, bel⟩ => ?_
  subst he
  exact ⟨_, rfl, _, _, _, [], _, [], hW', trodAll_mk1 (shut_bool Tryd.underlying4 _), (trodAll_cons_mk (shut_string Tryd.underlying9 w0) trodAll_mk0), rfl, bel.frame _, fun h => by cases h⟩

theorem said : Rows.TagCaseSaid :=
  OpenClaim.holds_of_cond 6 Tryd.f6 rfl rfl rfl rfl rfl rfl rfl ⟨rfl, rfl, rfl, rfl, rfl⟩ rfl rfl rfl rfl rfl (by kernel_rfl) Tryd.func6 (by kernel_rfl)
    (of_decide_eq_true (by kernel_rfl)) (by unfold Func.isWrapper; first | (rw [if_pos (by decide +kernel)]; kernel_rfl) | (rw [if_neg (by decide +kernel)]; exact ⟨rfl, rfl⟩))
    (fun os started H enc _ F => by rw [OpenClaim.pre_eq_preRow]; exact lifted os started H enc F)
theorem plain (f : FuncId) (fn : Func) (hf : Tryd.pinned.checked.prog.funcNamed "flail/flaillaw09.TagCase" = some f) (hfn : Tryd.pinned.checked.prog.funcs[f]? = some fn) :
    true = Tryd.pinned.checked.prog.looks [] ∧ ∀ (j : Nat) t, fn.params[j]? = some t → Tryd.pinned.checked.prog.wantsStandIn t = false := by
  obtain rfl : f = 6 := Option.some.inj ((show Tryd.prog.funcNamed "flail/flaillaw09.TagCase" = some 6 by kernel_rfl).symm.trans hf) |>.symm
  obtain rfl : fn = Tryd.f6 := (Option.some.inj (Tryd.func6.symm.trans hfn)).symm
  refine ⟨by kernel_rfl, fun j t ht => ?_⟩
  rw [Tryd.params6] at ht
  have hm : t ∈ [9] := by simpa using Array.mem_of_getElem? ht
  have hall : ([9].all fun u => !Tryd.prog.wantsStandIn u) = true := by kernel_rfl
  exact (show Tryd.prog.wantsStandIn t = false by simpa using List.all_eq_true.1 hall t hm)
/-- the statement: the row's card -/
theorem proved : Rows.TagCaseCardSaid :=
  Claim7.holds_tied_plain_at .later [] _ _ _ _ said (fun _ h => by cases h) (by kernel_rfl) (fun _ h => by cases h) tagCase_row_tie rfl ⟨rfl, rfl⟩ (by kernel_rfl) rfl plain (by kernel_rfl)
end Go.Proofs.YtdgebenkhcaijaaDoor.tagCase
