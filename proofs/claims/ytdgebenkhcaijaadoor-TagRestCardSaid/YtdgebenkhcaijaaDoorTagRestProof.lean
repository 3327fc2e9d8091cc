/-
  The law TagRest of flail/flaillaw09 answers true for every input, and changes nothing that was there. Condition, which the card ties to the program's text: when the call begins, the package variables that the row lists hold what that text lays in them (math/bits.deBruijn32tab, math/bits.deBruijn64tab, internal/strconv.uint64pow10, strconv.ErrRange, strconv.ErrSyntax, flail/number.others).
-/
import Derived.Test.YtdgebenkhcaijaaDoorRows
import Derived.Test.YtdgebenkhcaijaaDoorTagAwake
import Derived.Test.YtdgebenkhcaijaaDoorP8
import Derived.Test.YtdgebenkhcaijaaDoorCards
import Derived.Test.YtdgebenkhcaijaaDoorP6
import Derived.WalkKit
import Derived.ProofKit
import Derived.ChangeOld
import Derived.Below
import Derived.OpenShut
import Derived.ShutString
namespace Go.Proofs.YtdgebenkhcaijaaDoor.tagRest
open Go.ChangeShapes Go.WideShapes Go.ChangeAt Go.RowKit
open Go.ChangeMaps (open_string shut_string)
set_option linter.unusedVariables false      -- a walk need not use every 'w<i>' (that an integer argument fits its kind)

theorem own : ownKnob Tryd.prog.godebug = none := by kernel_rfl

theorem no_tag (s : Txt) (k : Nat) (h : ¬ ∃ t n, begT (s.drop k) ≠ 0 ∧ tagR (s.drop k) = some (t, n)) : ∃ n, tagV s (k : Int) = (zeroT, n, false) := by
  by_cases hb : begT (s.drop k) ≠ 0
  · cases hr : tagR (s.drop k) with
    | none => exact ⟨_, tag_none s k hb hr⟩
    | some r => exact (h ⟨r.1, r.2, hb, hr⟩).elim
  · exact ⟨_, (tag_out s k (fun e => hb (by have := e.2; rwa [show ((k : Nat) : Int).toNat = k by omega] at this))).1⟩
theorem rest_some (A S M : ByteArray) (t : TokP) (n : Nat) (hb : begT S.data.toList ≠ 0) (hr : tagR S.data.toList = some (t, n)) :
    tagV (A ++ S.extract 0 n ++ M).data.toList (A.size : Int) = (t, ((A.size + n : Nat) : Int), true) ∧ begV (A ++ S).data.toList (A.size : Int) = true := by
  have h1 := tag_rest S.data.toList M.data.toList hb t n hr
  have e1 : (A ++ S.extract 0 n ++ M).data.toList.drop A.size = S.data.toList.take n ++ M.data.toList := by
    rw [ByteArray.data_append, ByteArray.data_append, Array.toList_append, Array.toList_append, Lib.size_eq, List.append_assoc, List.drop_left, Lib.extract_data, List.drop_zero, Nat.sub_zero]
  have e2 : (A ++ S).data.toList.drop A.size = S.data.toList := by
    rw [ByteArray.data_append, Array.toList_append, Lib.size_eq, List.drop_left]
  refine ⟨tag_some _ _ (by rw [e1, h1.1]; exact hb) t n (by rw [e1]; exact h1.2), ?_⟩
  rw [beg_in, e2]
  exact decide_eq_true hb
set_option maxRecDepth 100000 in
set_option maxHeartbeats 8000000 in
theorem walk (a0 : ByteArray) (a1 : ByteArray) (a2 : ByteArray) (w0 : a0.size ≤ maxLen) (w1 : a1.size ≤ maxLen) (w2 : a2.size ≤ maxLen) (w : World) (hT : LaidAt w) :
    Calls Tryd.prog 5 #[.string a0, .string a1, .string a2] w fun e w' => e = .returned (.bool true) ∧ Below w.heap.size w w' := by
  clear w0 w1 w2
  have HW := Lib.hid hT
  clear hT
  by_cases hlen : 300 < a0.size ∨ 300 < a1.size ∨ 300 < a2.size
  · have hc : decide ((300 : Int) < (a0.size : Int)) = true ∨ decide ((300 : Int) < (a0.size : Int)) = false ∧ decide ((300 : Int) < (a1.size : Int)) = true ∨ decide ((300 : Int) < (a0.size : Int)) = false ∧ decide ((300 : Int) < (a1.size : Int)) = false ∧ decide ((300 : Int) < (a2.size : Int)) = true := by
      simp only [decide_eq_true_eq, decide_eq_false_iff_not]; omega
    clear hlen
    rcases hc with hc | ⟨hc, hd⟩ | ⟨hc, hd, he⟩
    all_goals
      go_enter Tryd.func5, Tryd.ntmps5
      go_wp2_with (fail)
      refine (tagAwake_any w HW.out).mono ?_
      rintro e w1 ⟨rfl, c1⟩
      go_wp2
      go_ret
      exact ⟨rfl, c1⟩
  have hs0 : a0.size ≤ 300 := by omega
  have hs1 : a1.size ≤ 300 := by omega
  have hs2 : a2.size ≤ 300 := by omega
  have d0 : decide ((300 : Int) < (a0.size : Int)) = false := decide_eq_false (by omega)
  have d1 : decide ((300 : Int) < (a1.size : Int)) = false := decide_eq_false (by omega)
  have d2 : decide ((300 : Int) < (a2.size : Int)) = false := decide_eq_false (by omega)
  clear hlen
  have HR1 := fun w h => Lib.hid (tag_any a1 0 w (by omega) (by decide) h)
  by_cases hex : ∃ t n, begT (a1.data.toList.drop 0) ≠ 0 ∧ tagR (a1.data.toList.drop 0) = some (t, n)
  · obtain ⟨t, n, hb, hr⟩ := hex
    have HV1 := Lib.hid (tag_some _ 0 hb t n hr)
    rw [List.drop_zero] at hb hr
    obtain ⟨e1, e2, -⟩ := tag_ends _ t n hr
    have hg := tg_len _ hb
    rw [← Lib.size_eq] at e2
    have hbp : 1 ≤ begT a1.data.toList := Nat.pos_of_ne_zero hb
    have hn3 : 3 ≤ n := by omega
    obtain ⟨hv2, HV3⟩ := rest_some a0 a1 a2 t n hb hr
    have HV2 := Lib.hid hv2
    clear hv2
    have hx : (a0 ++ a1.extract 0 n).size = a0.size + n := by rw [ByteArray.size_append, ByteArray.size_extract]; omega
    have HR2 := fun w h => Lib.hid (tag_any (a0 ++ a1.extract 0 n ++ a2) (a0.size : Int) w (by rw [ByteArray.size_append, hx]; omega) (by omega) h)
    have HR3 := fun w h => Lib.hid (tagBegins_any (a0 ++ a1) (a0.size : Int) w (by rw [ByteArray.size_append]; omega) (by omega) h)
    rw [HV3] at HR3
    have g1 : ¬ 9223372036854775807 < a0.size + (a1.extract 0 n).size := by rw [ByteArray.size_extract]; omega
    have g2 : ¬ 9223372036854775807 < (a0 ++ a1.extract 0 n).size + a2.size := by rw [hx]; omega
    have g3 : ¬ 9223372036854775807 < a0.size + a1.size := by omega
    clear hb hr e1 hg hbp hx HV3
    go_enter Tryd.func5, Tryd.ntmps5
    go_wp2_with (fail)
    refine (tagAwake_any w HW.out).mono ?_
    rintro e w1 ⟨rfl, c1⟩
    go_wp2_with (fail)
    refine (HR1 _ (HW.out.below c1)).out.mono ?_
    rintro e w2 ⟨t', ad, len, cap, n', ok, rfl, hr, hv, b2⟩
    have hv : tagV a1.data.toList ((0 : Nat) : Int) = (t', n', ok) := hv
    rw [HV1.out] at hv
    simp only [Prod.mk.injEq] at hv
    obtain ⟨rfl, rfl, rfl⟩ := hv
    have c2 := c1.trans (b2.mono c1.size)
    have K2 := Lib.hid hr
    have C2 := Lib.hid c2
    clear hr c2 c1 b2
    unfold tokA
    go_wp2_with (fail)
    have B3 := Lib.hid (below_new C2.out (.cells #[.int .i64 t.kind, .string ⟨t.name.toArray⟩, .string ⟨t.text.toArray⟩, .slice ad len cap, .bool t.self] 26))
    refine (HR2 _ (HW.out.below B3.out)).out.mono ?_
    rintro e w3 ⟨t', ad2, len2, cap2, n', ok, rfl, hr, hv, b3⟩
    rw [HV2.out] at hv
    simp only [Prod.mk.injEq] at hv
    obtain ⟨rfl, rfl, rfl⟩ := hv
    have K3 := Lib.hid hr
    clear hr
    have T2 := Lib.hid ((tokAt_new w2 t ad len cap 26).below b3 (by simp))
    have D3 := Lib.hid (((Below.refl w2.heap.size w2).alloc (Nat.le_refl _) _).trans (b3.mono (by simp)))
    have B4 := Lib.hid (B3.out.trans (b3.mono B3.out.size))
    have hlt : w2.heap.size < w3.heap.size := by have := b3.size; simp at this; omega
    obtain ⟨x0, x1, x2, x3, x4⟩ := T2.out.below ((Below.refl w3.heap.size w3).alloc (Nat.le_refl _) (.cells #[.int .i64 t.kind, .string ⟨t.name.toArray⟩, .string ⟨t.text.toArray⟩, .slice ad2 len2 cap2, .bool t.self] 26)) hlt
    unfold tokA
    go_wp2_with (fail)
    refine (refSame9_any t t _ _ _ _ _ _ _ ((K2.out.below D3.out (Nat.le_refl _)).below ((Below.refl _ w3).alloc (Nat.le_refl _) _) (Nat.le_refl _)) (K3.out.below ((Below.refl _ w3).alloc (Nat.le_refl _) _) (Nat.le_refl _))).mono ?_
    rintro e w4 ⟨rfl, b4⟩
    have D4 := Lib.hid (((Below.refl w3.heap.size w3).alloc (Nat.le_refl _) _).trans (b4.mono (by simp)))
    have B5 := Lib.hid (B4.out.trans (D4.out.mono B4.out.size))
    clear x0 x1 x2 x3 x4
    go_wp2_with (fail)
    refine (HR3 _ (HW.out.below B5.out)).out.mono ?_
    rintro e w5 ⟨rfl, b5⟩
    go_wp2
    go_ret
    exact ⟨ret_bool (by simp), B5.out.trans (b5.mono B5.out.size)⟩
  · obtain ⟨n, hn⟩ := no_tag _ 0 hex
    have HV1 := Lib.hid hn
    clear hn hex
    go_enter Tryd.func5, Tryd.ntmps5
    go_wp2_with (fail)
    refine (tagAwake_any w HW.out).mono ?_
    rintro e w1 ⟨rfl, c1⟩
    go_wp2_with (fail)
    refine (HR1 _ (HW.out.below c1)).out.mono ?_
    rintro e w2 ⟨t', ad, len, cap, n', ok, rfl, hr, hv, b2⟩
    have hv : tagV a1.data.toList ((0 : Nat) : Int) = (t', n', ok) := hv
    rw [HV1.out] at hv
    simp only [Prod.mk.injEq] at hv
    obtain ⟨rfl, rfl, rfl⟩ := hv
    have c2 := c1.trans (b2.mono c1.size)
    clear hr
    unfold tokA
    go_wp2
    go_ret
    exact ⟨rfl, below_new c2 _⟩
  -- go_wp2
  -- go_ret
  -- exact ⟨rfl, by repeat (first | exact Grown.refl _ | apply Grown.drew | apply Grown.alloc)⟩

theorem laid_met (os : Os) : laidMet Tryd.prog Rows.tagRestRow.laid ((laidWorld os).forCall (fun _ _ => 0) ⟨#[], #[.string ByteArray.empty, .string ByteArray.empty, .string ByteArray.empty], []⟩).memory :=
  laidMet_of_run' 8 (by kernel_rfl) (by kernel_rfl)
theorem reads (os : Os) {H : Type} (enc : TypeId × Value → H) : ∃ places, DataW.whole enc Tryd.prog ((laidWorld os).forCall (fun _ _ => 0) ⟨#[], #[.string ByteArray.empty, .string ByteArray.empty, .string ByteArray.empty], []⟩).memory Tryd.f5.params.toList Rows.tagRestSpec.vars false (#[.string ByteArray.empty, .string ByteArray.empty, .string ByteArray.empty] : Array Value).toList 8 = some ([.lit (.string []), .lit (.string []), .lit (.string [])], [], places) :=
  ⟨[], by kernel_rfl⟩
set_option maxRecDepth 100000 in
theorem lifted (os : Os) (started : os.Started) (H : Type) (enc : TypeId × Value → H) (F : Stop.Interp) :
    ReturnsInHanded {} Tryd.checked os 5 .any ((OpenSpec.ofChange Rows.tagRestSpec).preRow enc Tryd.prog Tryd.f5 Rows.tagRestRow.domain false Rows.tagRestRow.laid) (((OpenSpec.ofChange Rows.tagRestSpec).at F).post enc Tryd.prog Tryd.f5 false true false false) := by
  obtain ⟨places, hx⟩ := reads os enc
  refine returnsInHanded_of_row (C := Tryd.checked) (s := OpenSpec.ofChange Rows.tagRestSpec) own started (by kernel_rfl) Tryd.func5
    (witness_row_at (enc := enc) (C := Tryd.checked) false (laidWorld os) #[.string ByteArray.empty, .string ByteArray.empty, .string ByteArray.empty] rfl (by kernel_rfl) (by kernel_rfl) (by kernel_rfl)
      (OpenSpec.preRow_of_cond 8 hx (by kernel_rfl) (fun k hk => by cases hk) (by kernel_rfl) (laid_met os))) ?_
  intro W base args ds gs before hval0 hW _ _ _ hL _ _
  have hval : ∀ (j : Nat) t v, Tryd.f5.params[j]? = some t → args[j]? = some v → Value.okWide Tryd.prog W .any base t v := hval0
  have hW' := hW
  obtain ⟨p, q, hA0, hV, rfl, hfz, hnd⟩ := hW
  have hA : DataW.TrodAll enc Tryd.prog W 0 (fun _ => true) true Tryd.f5.params.toList args.toList ds p := hA0
  rw [Tryd.params5] at hA hval
  obtain ⟨v0, vs0, d0, ds0, p0, q0, hargs, rfl, rfl, h0, r0⟩ := trodAll_cons hA
  obtain ⟨v1, vs1, d1, ds1, p1, q1, rfl, rfl, rfl, h1, r1⟩ := trodAll_cons r0
  obtain ⟨v2, vs2, d2, ds2, p2, q2, rfl, rfl, rfl, h2, r2⟩ := trodAll_cons r1
  obtain ⟨rfl, rfl, rfl⟩ := trodAll_nil r2
  obtain rfl : args = #[v0, v1, v2] := by cases args; simp_all
  obtain ⟨rfl, rfl⟩ := trodVars_none hV
  obtain ⟨a0, rfl, rfl, rfl, w0⟩ := open_string Tryd.underlying9 (hval 0 9 v0 rfl rfl) h0
  obtain ⟨a1, rfl, rfl, rfl, w1⟩ := open_string Tryd.underlying9 (hval 1 9 v1 rfl rfl) h1
  obtain ⟨a2, rfl, rfl, rfl, w2⟩ := open_string Tryd.underlying9 (hval 2 9 v2 rfl rfl) h2
  clear hA0 hval0
  refine (walk a0 a1 a2 w0 w1 w2 W (tabAt_of hL)).mono fun e W' ⟨he, bel⟩ => ?_
  subst he
  exact ⟨_, rfl, _, _, _, [], _, [], hW', trodAll_mk1 (shut_bool Tryd.underlying4 _), (trodAll_cons_mk (shut_string Tryd.underlying9 w0) (trodAll_cons_mk (shut_string Tryd.underlying9 w1) (trodAll_cons_mk (shut_string Tryd.underlying9 w2) trodAll_mk0))), rfl, bel.frame _, fun h => by cases h⟩

theorem said : Rows.TagRestSaid :=
  OpenClaim.holds_of_cond 5 Tryd.f5 rfl rfl rfl rfl rfl rfl rfl ⟨rfl, rfl, rfl, rfl, rfl⟩ rfl rfl rfl rfl rfl (by kernel_rfl) Tryd.func5 (by kernel_rfl)
    (of_decide_eq_true (by kernel_rfl)) (by unfold Func.isWrapper; first | (rw [if_pos (by decide +kernel)]; kernel_rfl) | (rw [if_neg (by decide +kernel)]; exact ⟨rfl, rfl⟩))
    (fun os started H enc _ F => by rw [OpenClaim.pre_eq_preRow]; exact lifted os started H enc F)
theorem plain (f : FuncId) (fn : Func) (hf : Tryd.pinned.checked.prog.funcNamed "flail/flaillaw09.TagRest" = some f) (hfn : Tryd.pinned.checked.prog.funcs[f]? = some fn) :
    true = Tryd.pinned.checked.prog.looks [] ∧ ∀ (j : Nat) t, fn.params[j]? = some t → Tryd.pinned.checked.prog.wantsStandIn t = false := by
  obtain rfl : f = 5 := Option.some.inj ((show Tryd.prog.funcNamed "flail/flaillaw09.TagRest" = some 5 by kernel_rfl).symm.trans hf) |>.symm
  obtain rfl : fn = Tryd.f5 := (Option.some.inj (Tryd.func5.symm.trans hfn)).symm
  refine ⟨by kernel_rfl, fun j t ht => ?_⟩
  rw [Tryd.params5] at ht
  have hm : t ∈ [9] := by simpa using Array.mem_of_getElem? ht
  have hall : ([9].all fun u => !Tryd.prog.wantsStandIn u) = true := by kernel_rfl
  exact (show Tryd.prog.wantsStandIn t = false by simpa using List.all_eq_true.1 hall t hm)
/-- the statement: the row's card -/
theorem proved : Rows.TagRestCardSaid :=
  Claim7.holds_tied_plain_at .later [] _ _ _ _ said (fun _ h => by cases h) (by kernel_rfl) (fun _ h => by cases h) tagRest_row_tie rfl ⟨rfl, rfl⟩ (by kernel_rfl) rfl plain (by kernel_rfl)
end Go.Proofs.YtdgebenkhcaijaaDoor.tagRest
