/-
  The law RefPlain of flail/flaillaw07 answers true for every input, and changes nothing that was there. Condition, which the card ties to the program's text: when the call begins, the package variables that the row lists hold what that text lays in them (math/bits.deBruijn32tab, math/bits.deBruijn64tab, internal/strconv.uint64pow10, strconv.ErrRange, strconv.ErrSyntax, flail/number.others).
-/
import Derived.Test.YtdpgdcbclgdjaaaDoorRows
import Derived.Test.YtdpgdcbclgdjaaaDoorRefLaws
import Derived.Test.YtdpgdcbclgdjaaaDoorCards
import Derived.Test.YtdpgdcbclgdjaaaDoorRefLaid
import Derived.WalkKit
import Derived.ProofKit
import Derived.ChangeOld
import Derived.Below
import Derived.OpenShut
import Derived.ShutString
namespace Go.Proofs.YtdpgdcbclgdjaaaDoor.refPlain
open Go.ChangeShapes Go.WideShapes Go.ChangeAt Go.RowKit
open Go.ChangeMaps (open_string shut_string)
set_option linter.unusedVariables false      -- a walk need not use every 'w<i>' (that an integer argument fits its kind)

theorem own : ownKnob Tryd.prog.godebug = none := by kernel_rfl

/-- the two texts that the loop writes -/
structure PlainAt (s : ByteArray) (i : Nat) (p t : ByteArray) : Prop where
  plain : p.data.toList = (s.data.toList.take i).filter (fun c => c != 38)
  told : t.data.toList = ampL (s.data.toList.take i)
theorem PlainAt.other {s : ByteArray} {i : Nat} {p t : ByteArray} (h : PlainAt s i p t) (hi : i < s.size) (hc : s[i] ≠ 38) : PlainAt s (i + 1) (p ++ s.extract i (i + 1)) (t ++ s.extract i (i + 1)) := by
  have e := take_snoc s i hi
  constructor
  · rw [app_list, h.plain, extract_one s i hi, e, List.filter_append, List.filter_cons_of_pos (by simpa using hc), List.filter_nil]
  · rw [app_list, h.told, extract_one s i hi, e, ampL_app, ampL_cons, if_neg hc]; rfl
theorem PlainAt.amp {s : ByteArray} {i : Nat} {p t : ByteArray} (h : PlainAt s i p t) (hi : i < s.size) (hc : s[i] = 38) : PlainAt s (i + 1) p (t ++ ⟨#[38, 97, 109, 112, 59]⟩) := by
  have e := take_snoc s i hi
  rw [hc] at e
  constructor
  · rw [h.plain, e, List.filter_append]; simp
  · rw [app_list, h.told, e, ampL_app]; rfl
theorem PlainAt.stop {s : ByteArray} {i : Nat} {p t : ByteArray} (h : PlainAt s i p t) (hi : s.size ≤ i) (attr : Bool) : ddS attr p = p ∧ ddS attr t = s := by
  have e : s.data.toList.take i = s.data.toList := List.take_of_length_le (by rw [← Lib.size_eq]; exact hi)
  refine ⟨ddS_stays attr p ?_, ddS_amps attr s t ?_⟩
  · rw [h.plain]; simp
  · rw [h.told, e]
set_option maxRecDepth 100000 in
set_option maxHeartbeats 1000000 in
theorem walk (a0 : ByteArray) (a1 : Bool) (w0 : a0.size ≤ maxLen) (w : World) (hT : LaidAt w) :
    Calls Tryd.prog 4 #[.string a0, .bool a1] w fun e w' => e = .returned (.bool true) ∧ Below w.heap.size w w' := by
  clear w0
  have HW := Lib.hid hT
  clear hT
  by_cases h0 : 300 < a0.size
  · go_enter Tryd.func4, Tryd.ntmps4
    go_wp2_with (fail)
    refine (awakeL w HW.out).mono ?_
    rintro e w1 ⟨rfl, c1⟩
    go_wp2
    go_ret
    exact ⟨rfl, c1⟩
  have HX := fun w h => Lib.hid (decL_s a0 a1 w (by omega) h)
  have sx := ddS_size a1 a0
  obtain ⟨X, hX⟩ : ∃ X, ddS a1 a0 = X := ⟨_, rfl⟩
  rw [hX] at HX sx
  clear hX
  go_enter Tryd.func4, Tryd.ntmps4
  go_wp2_with (fail)
  refine (awakeL w HW.out).mono ?_
  rintro e w1 ⟨rfl, c1⟩
  go_wp2_with (fail)
  go_loopw [6, 7, 8] (fun a b v wr => ∃ (i : Nat) (p t : ByteArray), a = .string p ∧ b = .string t ∧ v = .int .i64 (i : Int) ∧ i ≤ a0.size ∧ p.size ≤ i ∧ t.size ≤ 5 * i ∧ PlainAt a0 i p t ∧ w1 = wr) (fun _ _ v _ => a0.size - (intOf v).toNat)
  case atStart => exact ⟨0, ⟨#[]⟩, ⟨#[]⟩, rfl, rfl, rfl, Nat.zero_le _, Nat.le_refl _, Nat.le_refl _, ⟨rfl, rfl⟩, rfl⟩
  case round =>
    obtain ⟨i, p, t, rfl, rfl, rfl, hi, hp, ht, hat, rfl⟩ := hrel
    by_cases hlt : i < a0.size
    · by_cases h38 : a0[i] = 38
      · have b38 : (((a0[i].toNat : Nat) : Int) != 38) = false := by rw [h38]; rfl
        have HA := Lib.hid (hat.amp hlt h38)
        clear hat h38
        go_wp2
        go_roundw
        case rel => exact ⟨i + 1, _, _, rfl, rfl, rfl, by omega, by omega, by rw [ByteArray.size_append]; have : (ByteArray.mk #[38, 97, 109, 112, 59]).size = 5 := rfl; omega, HA.out, trivial⟩
        case measure => simp [intOf]; omega
      · have b38 : (((a0[i].toNat : Nat) : Int) != 38) = true := by rw [bne_iff_ne]; exact fun h => h38 (u8_eq _ 38 (by decide) h)
        have HA := Lib.hid (hat.other hlt h38)
        clear hat h38
        go_wp2
        go_roundw
        case rel => exact ⟨i + 1, _, _, rfl, rfl, rfl, by omega, by simp; omega, by simp; omega, HA.out, trivial⟩
        case measure => simp [intOf]; omega
    · obtain ⟨e1, e2⟩ := hat.stop (by omega) a1
      have HP := fun w h => Lib.hid (decL_s p a1 w (by omega) h)
      have HT := fun w h => Lib.hid (decL_s t a1 w (by omega) h)
      rw [e1] at HP
      rw [e2] at HT
      clear e1 e2 hat
      go_wp2_with (fail)
      refine (HP _ (HW.out.below c1)).out.mono ?_
      rintro e w2 ⟨rfl, b2⟩
      have c2 := c1.trans (b2.mono c1.size)
      go_wp2_with (fail)
      refine (HT _ (HW.out.below c2)).out.mono ?_
      rintro e w3 ⟨rfl, b3⟩
      have c3 := c2.trans (b3.mono c2.size)
      go_wp2_with (fail)
      refine (HX _ (HW.out.below c3)).out.mono ?_
      rintro e w4 ⟨rfl, b4⟩
      have c4 := c3.trans (b4.mono c3.size)
      go_wp2
      go_ret
      exact ⟨ret_bool (by simp; omega), c4⟩
  -- go_wp2
  -- go_ret
  -- exact ⟨rfl, by repeat (first | exact Grown.refl _ | apply Grown.drew | apply Grown.alloc)⟩

theorem laid_met (os : Os) : laidMet Tryd.prog Rows.refPlainRow.laid ((laidWorld os).forCall (fun _ _ => 0) ⟨#[], #[.string ByteArray.empty, .bool false], []⟩).memory :=
  laidMet_of_run' 8 (by kernel_rfl) (by kernel_rfl)
theorem reads (os : Os) {H : Type} (enc : TypeId × Value → H) : ∃ places, DataW.whole enc Tryd.prog ((laidWorld os).forCall (fun _ _ => 0) ⟨#[], #[.string ByteArray.empty, .bool false], []⟩).memory Tryd.f4.params.toList Rows.refPlainSpec.vars false (#[.string ByteArray.empty, .bool false] : Array Value).toList 8 = some ([.lit (.string []), .lit (.bool false)], [], places) :=
  ⟨[], by kernel_rfl⟩
set_option maxRecDepth 100000 in
theorem lifted (os : Os) (started : os.Started) (H : Type) (enc : TypeId × Value → H) (F : Stop.Interp) :
    ReturnsInHanded {} Tryd.checked os 4 .any ((OpenSpec.ofChange Rows.refPlainSpec).preRow enc Tryd.prog Tryd.f4 Rows.refPlainRow.domain false Rows.refPlainRow.laid) (((OpenSpec.ofChange Rows.refPlainSpec).at F).post enc Tryd.prog Tryd.f4 false true false false) := by
  obtain ⟨places, hx⟩ := reads os enc
  refine returnsInHanded_of_row (C := Tryd.checked) (s := OpenSpec.ofChange Rows.refPlainSpec) own started (by kernel_rfl) Tryd.func4
    (witness_row_at (enc := enc) (C := Tryd.checked) false (laidWorld os) #[.string ByteArray.empty, .bool false] rfl (by kernel_rfl) (by kernel_rfl) (by kernel_rfl)
      (OpenSpec.preRow_of_cond 8 hx (by kernel_rfl) (fun k hk => by cases hk) (by kernel_rfl) (laid_met os))) ?_
  intro W base args ds gs before hval0 hW _ _ _ hL _ _
  have hval : ∀ (j : Nat) t v, Tryd.f4.params[j]? = some t → args[j]? = some v → Value.okWide Tryd.prog W .any base t v := hval0
  have hW' := hW
  obtain ⟨p, q, hA0, hV, rfl, hfz, hnd⟩ := hW
  have hA : DataW.TrodAll enc Tryd.prog W 0 (fun _ => true) true Tryd.f4.params.toList args.toList ds p := hA0
  rw [Tryd.params4] at hA hval
  obtain ⟨v0, vs0, d0, ds0, p0, q0, hargs, rfl, rfl, h0, r0⟩ := trodAll_cons hA
  obtain ⟨v1, vs1, d1, ds1, p1, q1, rfl, rfl, rfl, h1, r1⟩ := trodAll_cons r0
  obtain ⟨rfl, rfl, rfl⟩ := trodAll_nil r1
  obtain rfl : args = #[v0, v1] := by cases args; simp_all
  obtain ⟨rfl, rfl⟩ := trodVars_none hV
  obtain ⟨a0, rfl, rfl, rfl, w0⟩ := open_string Tryd.underlying9 (hval 0 9 v0 rfl rfl) h0
  obtain ⟨a1, rfl, rfl, rfl⟩ := open_bool Tryd.underlying4 (hval 1 4 v1 rfl rfl) h1
  clear hA0 hval0
  refine (walk a0 a1 w0 W (tabAt_of hL)).mono fun e W' ⟨he, bel⟩ => ?_
  subst he
  exact ⟨_, rfl, _, _, _, [], _, [], hW', trodAll_mk1 (shut_bool Tryd.underlying4 _), (trodAll_cons_mk (shut_string Tryd.underlying9 w0) (trodAll_cons_mk (shut_bool Tryd.underlying4 _) trodAll_mk0)), rfl, bel.frame _, fun h => by cases h⟩

theorem said : Rows.RefPlainSaid :=
  OpenClaim.holds_of_cond 4 Tryd.f4 rfl rfl rfl rfl rfl rfl rfl ⟨rfl, rfl, rfl, rfl, rfl⟩ rfl rfl rfl rfl rfl (by kernel_rfl) Tryd.func4 (by kernel_rfl)
    (of_decide_eq_true (by kernel_rfl)) (by unfold Func.isWrapper; first | (rw [if_pos (by decide +kernel)]; kernel_rfl) | (rw [if_neg (by decide +kernel)]; exact ⟨rfl, rfl⟩))
    (fun os started H enc _ F => by rw [OpenClaim.pre_eq_preRow]; exact lifted os started H enc F)
theorem plain (f : FuncId) (fn : Func) (hf : Tryd.pinned.checked.prog.funcNamed "flail/flaillaw07.RefPlain" = some f) (hfn : Tryd.pinned.checked.prog.funcs[f]? = some fn) :
    true = Tryd.pinned.checked.prog.looks [] ∧ ∀ (j : Nat) t, fn.params[j]? = some t → Tryd.pinned.checked.prog.wantsStandIn t = false := by
  obtain rfl : f = 4 := Option.some.inj ((show Tryd.prog.funcNamed "flail/flaillaw07.RefPlain" = some 4 by kernel_rfl).symm.trans hf) |>.symm
  obtain rfl : fn = Tryd.f4 := (Option.some.inj (Tryd.func4.symm.trans hfn)).symm
  refine ⟨by kernel_rfl, fun j t ht => ?_⟩
  rw [Tryd.params4] at ht
  have hm : t ∈ [9, 4] := by simpa using Array.mem_of_getElem? ht
  have hall : ([9, 4].all fun u => !Tryd.prog.wantsStandIn u) = true := by kernel_rfl
  exact (show Tryd.prog.wantsStandIn t = false by simpa using List.all_eq_true.1 hall t hm)
/-- the statement: the row's card -/
theorem proved : Rows.RefPlainCardSaid :=
  Claim7.holds_tied_plain_at .later [] _ _ _ _ said (fun _ h => by cases h) (by kernel_rfl) (fun _ h => by cases h) refPlain_row_tie rfl ⟨rfl, rfl⟩ (by kernel_rfl) rfl plain (by kernel_rfl)
end Go.Proofs.YtdpgdcbclgdjaaaDoor.refPlain
