/-
  The law TokJoins of flail/flaillaw15 answers true for every input, and changes nothing that was there. Condition, which the card ties to the program's text: when the call begins, the package variables that the row lists hold what that text lays in them (math/bits.deBruijn32tab, math/bits.deBruijn64tab, internal/strconv.uint64pow10, strconv.ErrRange, strconv.ErrSyntax, flail/number.others).
-/
import Derived.Test.YtaebcplffgaonaaGreatDoorRows
import Derived.Test.YtaebcplffgaonaaGreatDoorTkAwake
import Derived.Test.YtaebcplffgaonaaGreatDoorQH
import Derived.Test.YtaebcplffgaonaaGreatDoorQB
import Derived.Test.YtaebcplffgaonaaGreatDoorTkArg
import Derived.Test.YtaebcplffgaonaaGreatDoorCards
import Derived.Test.YtaebcplffgaonaaGreatDoorP6
import Derived.WalkKit
import Derived.ProofKit
import Derived.OpenShut
import Derived.ShutString
import Derived.ChangeOld
import Derived.Below
namespace Go.Proofs.YtaebcplffgaonaaGreatDoor.tokJoins
open Go.ChangeShapes Go.WideShapes Go.ChangeAt Go.RowKit
open Go.ChangeMaps (open_string shut_string)
set_option linter.unusedVariables false

theorem own : ownKnob Tryz.prog.godebug = none := by kernel_rfl
theorem laidOut : laidOutB Tryz.prog = true := by kernel_rfl

theorem join_text : ∀ (L : List TokP) (says : Txt) (n : Nat), (∀ t ∈ L, t.text.length ≤ n) → ∀ t ∈ joinA says L, t.text.length ≤ says.length + n * L.length
  | [], says, n, hn, t, h => by
    unfold joinA emitT at h
    split at h
    · cases h
    · obtain rfl : t = txtT says := by simpa using h
      show says.length ≤ _
      omega
  | u :: L, says, n, hn, t, h => by
    have hu := hn u (.head _)
    have hm : n * (u :: L).length = n * L.length + n := by rw [List.length_cons, Nat.mul_succ]
    unfold joinA at h
    split at h
    · have := join_text L (says ++ u.text) n (fun t ht => hn t (.tail _ ht)) t h
      rw [List.length_append] at this
      omega
    · rcases List.mem_append.1 h with h1 | h1
      · unfold emitT at h1
        split at h1
        · cases h1
        · obtain rfl : t = txtT says := by simpa using h1
          show says.length ≤ _
          omega
      · rcases List.mem_cons.1 h1 with rfl | h2
        · omega
        · have := join_text L [] n (fun t ht => hn t (.tail _ ht)) t h2
          simp only [List.length_nil] at this
          omega
/-- the second joining's premises -/
theorem join_again (L : List TokP) (hl : L.length ≤ 60) (ht : ∀ t ∈ L, t.text.length ≤ 200) : (joinL L).length ≤ 2097152 ∧ ∀ t ∈ joinL L, t.text.length ≤ 16777216 := by
  refine ⟨Nat.le_trans (join_len L) (by omega), fun t h => ?_⟩
  have h1 := join_text L [] 200 ht t h
  have h2 : 200 * L.length ≤ 200 * 60 := Nat.mul_le_mul_left _ hl
  simp only [List.length_nil] at h1
  omega
theorem join_just (L : List TokP) : ∀ t ∈ joinL L, JustT t := fun t h hk => by
  rcases join_mem L [] t h with ⟨h1, _⟩ | ⟨x, _, rfl⟩
  · exact absurd hk h1
  · exact ⟨rfl, rfl, rfl⟩
set_option maxRecDepth 100000 in
set_option maxHeartbeats 8000000 in
theorem walk (a0 : Option Addr) (len0 cap0 : Nat) (l0 : List TokP) (w : World) (hT : LaidAt w) (w0 : IsToks w a0 len0 cap0 l0) :
    Calls Tryz.prog 5 #[.slice a0 len0 cap0] w fun e w' => e = .returned (.bool true) ∧ Below w.heap.size w w' := by
  have HL0 := Lib.hid w0
  have HL1 := Lib.hid w0.1
  clear w0
  have HW := Lib.hid hT
  clear hT
  have HF := fun w h => Lib.hid (refFew15_any a0 len0 cap0 l0 w h)
  have HX := fun w h => Lib.hid (refTexts15_any a0 len0 cap0 l0 w h)
  go_enter Tryz.func5, Tryz.ntmps5
  go_wp2_with (fail)
  refine (tkAwake_any w HW.out).mono ?_
  rintro e w1 ⟨rfl, c1⟩
  have B1 := Lib.hid c1
  clear c1
  go_wp2_with (fail)
  refine (HF _ (HL0.out.below B1.out (Nat.le_refl _))).out.mono ?_
  rintro e w2 ⟨⟨b, rfl, hb⟩, c2⟩
  have B2 := Lib.hid (B1.out.trans (c2.mono B1.out.size))
  have HB := Lib.hid hb
  clear c2 hb
  go_wp2_with (fail)
  refine (HX _ (HL0.out.below B2.out (Nat.le_refl _))).out.mono ?_
  rintro e w3 ⟨⟨d, rfl, hd⟩, c3⟩
  have B3 := Lib.hid (B2.out.trans (c3.mono B2.out.size))
  have HD := Lib.hid hd
  clear c3 hd
  cases b with
  | false =>
    go_wp2
    go_ret
    exact ⟨rfl, B3.out⟩
  | true =>
  cases d with
  | false =>
    go_wp2
    go_ret
    exact ⟨rfl, B3.out⟩
  | true =>
  have HB' := Lib.hid (HB.out rfl)
  have HD' := Lib.hid (HD.out rfl)
  clear HB HD
  have H1 := fun w h hw => Lib.hid (tokJoin_any a0 len0 cap0 l0 w h (Nat.le_trans HB'.out.1 (by decide)) (fun t ht => Nat.le_trans (HB'.out.2 t ht) (by decide)) HD'.out hw)
  have HA := Lib.hid (join_again l0 (by rw [HL1.out]; exact HB'.out.1) HB'.out.2)
  have HP := Lib.hid (join_parted l0 [])
  have HR := fun w h => Lib.hid (refJoin15_any a0 len0 cap0 l0 w h (Nat.le_trans HB'.out.1 (by decide)) (fun t ht => Nat.le_trans (HB'.out.2 t ht) (by decide)))
  have HJ := Lib.hid (join_twice l0)
  have HJJ := Lib.hid (join_just l0)
  change Hid (Parted (joinL l0)) at HP
  obtain ⟨M, hM⟩ : ∃ M, joinL l0 = M := ⟨_, rfl⟩
  rw [hM] at H1 HA HP HR HJ HJJ
  clear hM
  go_wp2_with (fail)
  refine (H1 _ (HL0.out.below B3.out (Nat.le_refl _)) (HW.out.below B3.out)).out.mono ?_
  rintro e w4 ⟨ad, n, cp, rfl, t4, c4⟩
  have B4 := Lib.hid (B3.out.trans (c4.mono B3.out.size))
  have hn := t4.1
  have hcp := t4.2.1
  have hmx := t4.2.2.1
  unfold maxLen at hmx
  have T4 := Lib.hid t4
  have HN := Lib.hid hn
  clear c4 t4 hn H1
  go_wp2
  go_loopw [7] (fun v wr => ∃ i : Nat, v = .int .i64 (i : Int) ∧ w4 = wr ∧ 1 ≤ i ∧ (i ≤ n ∨ i = 1)) (fun v _ => n - (intOf v).toNat)
  case atStart => exact ⟨1, rfl, rfl, Nat.le_refl _, .inr rfl⟩
  case round =>
    obtain ⟨i, rfl, rfl, h1, hi⟩ := hrel
    by_cases hlt : i < n
    · obtain ⟨j, hj⟩ : ∃ j : Nat, i = j + 1 := ⟨i - 1, by omega⟩
      have hji : (i : Int) - 1 = (j : Int) := by omega
      have hjn : j < n := by omega
      obtain ⟨x, ad1, ln1, cp1, rfl, xc, _⟩ := T4.out.2.2.2 i (by rw [HN.out]; exact hlt)
      obtain ⟨y, ad2, ln2, cp2, hy, yc, _⟩ := T4.out.2.2.2 j (by rw [HN.out]; exact hjn)
      obtain rfl : x = y := by injection hy
      obtain ⟨x0, -, -, -, -⟩ := xc.asked
      obtain ⟨y0, -, -, -, -⟩ := yc.asked
      simp only at x0 y0
      have hnb : ¬ ((M[j]'(by rw [HN.out]; exact hjn)).kind = 0 ∧ (M[i]'(by rw [HN.out]; exact hlt)).kind = 0) := by
        subst hj
        exact parted_at HP.out j (by rw [HN.out]; exact hlt)
      generalize (M[j]'(by rw [HN.out]; exact hjn)).kind = K at y0 hnb
      generalize (M[i]'(by rw [HN.out]; exact hlt)).kind = J at x0 hnb
      clear xc yc hy hj
      by_cases hJ : J = 0
      · have b0 : (J == 0) = true := by rw [hJ]; rfl
        have b1 : (K == 0) = false := beq_eq_false_iff_ne.2 fun h => hnb ⟨h, hJ⟩
        clear hnb
        go_wp2
        go_roundw
        case rel => exact ⟨i + 1, by go_num, trivial, by omega, .inl (by omega)⟩
        case measure => simp [intOf]; omega
      · have b0 : (J == 0) = false := beq_eq_false_iff_ne.2 hJ
        clear hnb
        go_wp2
        go_roundw
        case rel => exact ⟨i + 1, by go_num, trivial, by omega, .inl (by omega)⟩
        case measure => simp [intOf]; omega
    · go_wp2_with (fail)
      clear hlt hi h1
      refine (HR _ (HL0.out.below B4.out (Nat.le_refl _))).out.mono ?_
      rintro e w5 ⟨v, Q, rfl, o5, q5, c5⟩
      obtain ⟨y, d, rfl, t5⟩ := o5.told
      rw [q5] at t5
      have B5 := Lib.hid (B4.out.trans (c5.mono B4.out.size))
      have T5 := Lib.hid (T4.out.below c5 (Nat.le_refl _))
      have HE := Lib.hid (refAll_any _ _ _ _ _ _ _ _ _ T5.out t5)
      rw [decide_eq_true (rfl : M = M)] at HE
      have HJ2 := fun w h hw => Lib.hid (tokJoin_any ad n cp M w h (by rw [← HN.out]; exact HA.out.1) HA.out.2 HJJ.out hw)
      rw [HJ.out] at HJ2
      clear c5 t5 o5 q5
      go_wp2_with (fail)
      refine HE.out.mono ?_
      rintro e w6 ⟨rfl, c6⟩
      have B6 := Lib.hid (B5.out.trans (c6.mono B5.out.size))
      have T6 := Lib.hid (T5.out.below c6 (Nat.le_refl _))
      clear c6
      go_wp2_with (fail)
      refine (HJ2 _ T6.out (HW.out.below B6.out)).out.mono ?_
      rintro e w7 ⟨ad7, n7, cp7, rfl, t7, c7⟩
      have B7 := Lib.hid (B6.out.trans (c7.mono B6.out.size))
      have T7 := Lib.hid (T6.out.below c7 (Nat.le_refl _))
      have HE2 := Lib.hid (refAll_any _ _ _ _ _ _ _ _ _ t7 T7.out)
      rw [decide_eq_true (rfl : M = M)] at HE2
      clear c7 t7
      go_wp2_with (fail)
      refine HE2.out.mono ?_
      rintro e w8 ⟨rfl, c8⟩
      go_wp2
      go_ret
      exact ⟨ret_bool (by simp), B7.out.trans (c8.mono B7.out.size)⟩

theorem laid_met (os : Os) : laidMet Tryz.prog Rows.tokJoinsRow.laid ((laidWorld os).forCall (fun _ _ => 0) ⟨#[], #[.slice none 0 0], []⟩).memory :=
  laidMet_of_run' 8 (by kernel_rfl) (by kernel_rfl)
theorem reads (os : Os) {H : Type} (enc : TypeId × Value → H) : ∃ places, DataW.whole enc Tryz.prog ((laidWorld os).forCall (fun _ _ => 0) ⟨#[], #[.slice none 0 0], []⟩).memory Tryz.f5.params.toList Rows.tokJoinsSpec.vars false (#[.slice none 0 0] : Array Value).toList 8 = some ([.nil], [], places) :=
  ⟨[], by kernel_rfl⟩
set_option maxRecDepth 100000 in
theorem lifted (os : Os) (started : os.Started) (H : Type) (enc : TypeId × Value → H) (F : Stop.Interp) :
    ReturnsInHanded {} Tryz.checked os 5 .any ((OpenSpec.ofChange Rows.tokJoinsSpec).preRow enc Tryz.prog Tryz.f5 Rows.tokJoinsRow.domain false Rows.tokJoinsRow.laid) (((OpenSpec.ofChange Rows.tokJoinsSpec).at F).post enc Tryz.prog Tryz.f5 false true false false) := by
  obtain ⟨places, hx⟩ := reads os enc
  refine returnsInHanded_of_row (C := Tryz.checked) (s := OpenSpec.ofChange Rows.tokJoinsSpec) own started (by kernel_rfl) Tryz.func5
    (witness_row_at (enc := enc) (C := Tryz.checked) false (laidWorld os) #[.slice none 0 0] rfl (by kernel_rfl) (by kernel_rfl) (by kernel_rfl)
      (OpenSpec.preRow_of_cond 8 hx (by kernel_rfl) (fun k hk => by cases hk) (by kernel_rfl) (laid_met os))) ?_
  intro W base args ds gs before hval0 hW _ _ _ hL hsh _
  have hval : ∀ (j : Nat) t v, Tryz.f5.params[j]? = some t → args[j]? = some v → Value.okWide Tryz.prog W .any base t v := hval0
  have hW' := hW
  obtain ⟨p, q, hA0, hV, rfl, hfz, hnd⟩ := hW
  have hA : DataW.TrodAll enc Tryz.prog W 0 (fun _ => true) true Tryz.f5.params.toList args.toList ds p := hA0
  rw [Tryz.params5] at hA hval
  obtain ⟨v0, vs0, d0, ds0, p0, q0, hargs, rfl, rfl, h0, r0⟩ := trodAll_cons hA
  obtain ⟨rfl, rfl, rfl⟩ := trodAll_nil r0
  obtain rfl : args = #[v0] := by cases args; simp_all
  obtain ⟨rfl, rfl⟩ := trodVars_none hV
  obtain ⟨a0, len0, cap0, rfl⟩ := okWide_slice Tryz.underlying24 (hval 0 24 v0 rfl rfl)
  have k0 := h0
  have lt0 : ∀ x ∈ p0, x.block < W.heap.size := by obtain ⟨m, hm⟩ := k0; exact DataW.trod_lt m _ _ _ hm
  obtain ⟨l0, w0⟩ : ∃ l, IsToks W a0 len0 cap0 l := by
    obtain ⟨fuel, hf⟩ := h0
    exact isToks_arg (by simp [Value.cells]) hf
  clear hA0 hval0
  refine (walk a0 len0 cap0 l0 W (tabAt_of hL hsh) w0).mono fun e W' ⟨he, bel⟩ => ?_
  subst he
  exact ⟨_, rfl, _, _, _, [], _, [], hW', trodAll_mk1 (shut_bool Tryz.underlying4 _), (trodAll_cons_mk (Below.trod laidOut (by kernel_rfl) (of_decide_eq_true (by kernel_rfl)) k0 bel lt0) trodAll_mk0), rfl, bel.frame _, fun h => by cases h⟩

theorem said : Rows.TokJoinsSaid :=
  OpenClaim.holds_of_cond 5 Tryz.f5 rfl rfl rfl rfl rfl rfl rfl ⟨rfl, rfl, rfl, rfl, rfl⟩ rfl rfl rfl rfl rfl (by kernel_rfl) Tryz.func5 (by kernel_rfl)
    (of_decide_eq_true (by kernel_rfl)) (by unfold Func.isWrapper; first | (rw [if_pos (by decide +kernel)]; kernel_rfl) | (rw [if_neg (by decide +kernel)]; exact ⟨rfl, rfl⟩))
    (fun os started H enc _ F => by rw [OpenClaim.pre_eq_preRow]; exact lifted os started H enc F)
theorem plain (f : FuncId) (fn : Func) (hf : Tryz.pinned.checked.prog.funcNamed "flail/flaillaw15.TokJoins" = some f) (hfn : Tryz.pinned.checked.prog.funcs[f]? = some fn) :
    true = Tryz.pinned.checked.prog.looks [] ∧ ∀ (j : Nat) t, fn.params[j]? = some t → Tryz.pinned.checked.prog.wantsStandIn t = false := by
  obtain rfl : f = 5 := Option.some.inj ((show Tryz.prog.funcNamed "flail/flaillaw15.TokJoins" = some 5 by kernel_rfl).symm.trans hf) |>.symm
  obtain rfl : fn = Tryz.f5 := (Option.some.inj (Tryz.func5.symm.trans hfn)).symm
  refine ⟨by kernel_rfl, fun j t ht => ?_⟩
  rw [Tryz.params5] at ht
  have hm : t ∈ [24] := by first | simpa using Array.mem_of_getElem? ht | (have h := Array.mem_of_getElem? ht; simp at h ⊢; grind)
  have hall : ([24].all fun u => !Tryz.prog.wantsStandIn u) = true := by kernel_rfl
  exact (show Tryz.prog.wantsStandIn t = false by simpa using List.all_eq_true.1 hall t hm)
/-- the statement: the row's card -/
theorem proved : Rows.TokJoinsCardSaid :=
  Claim7.holds_tied_plain_at .later [] _ _ _ _ said (fun _ h => by cases h) (by kernel_rfl) (fun _ h => by cases h) tokJoins_row_tie rfl ⟨rfl, rfl⟩ (by kernel_rfl) rfl plain (by kernel_rfl)
end Go.Proofs.YtaebcplffgaonaaGreatDoor.tokJoins
