/-
  The law AttrsClean of flail/flaillaw08 answers true for every input, and changes nothing that was there. Condition, which the card ties to the program's text: when the call begins, the package variables that the row lists hold what that text lays in them (math/bits.deBruijn32tab, math/bits.deBruijn64tab, internal/strconv.uint64pow10, strconv.ErrRange, strconv.ErrSyntax, flail/number.others).
-/
import Derived.Test.YtpdmnnfbdeiejaaDoorRows
import Derived.Test.YtpdmnnfbdeiejaaDoorAttAwake
import Derived.Test.YtpdmnnfbdeiejaaDoorAttWrit
import Derived.Test.YtpdmnnfbdeiejaaDoorP2
import Derived.Test.YtpdmnnfbdeiejaaDoorCards
import Derived.Test.YtpdmnnfbdeiejaaDoorP6
import Derived.WalkKit
import Derived.ProofKit
import Derived.ChangeOld
import Derived.Below
import Derived.OpenShut
import Derived.ShutString
namespace Go.Proofs.YtpdmnnfbdeiejaaDoor.attrsClean
open Go.ChangeShapes Go.WideShapes Go.ChangeAt Go.RowKit
open Go.ChangeMaps (open_string shut_string)
set_option linter.unusedVariables false      -- a walk need not use every 'w<i>' (that an integer argument fits its kind)

theorem own : ownKnob Tryd.prog.godebug = none := by kernel_rfl

theorem dec_short : ∀ (k n : Nat), n < 10 ^ (k + 1) → (decL n).length ≤ k + 1
  | 0, n, h => by rw [decL_small n (by simpa using h)]; simp
  | k + 1, n, h => by
    by_cases hs : n < 10
    · rw [decL_small n hs]; simp
    · have ih := dec_short k (n / 10) (by rw [Nat.pow_succ] at h; omega)
      rw [decL_more n hs, List.length_append, List.length_singleton]; omega
theorem no0_all {l : List Ln} (h : GoodA l) (i : Nat) (hi : i < l.length) : 0 ∉ l[i].1 ++ l[i].2 := by
  obtain ⟨⟨c, t, e, h1, h2⟩, h3⟩ := h.2 l[i] (List.getElem_mem hi)
  intro hm
  rcases List.mem_append.1 hm with hm | hm
  · rw [e] at hm
    rcases List.mem_cons.1 hm with rfl | hm
    · exact h1.2.2.2.2.2.2.1 rfl
    · exact (h2 _ hm).1.2.2.2.2.2.2.1 rfl
  · exact h3 hm
theorem byte_not0 (A : ByteArray) (h : 0 ∉ A.data.toList) (k : Nat) (hk : k < A.size) : (((A[k].toNat : Nat) : Int) == 0) = false := by
  rw [beq_eq_false_iff_ne]
  intro e
  apply h
  have e2 : A[k] = 0 := u8_eq _ 0 (by decide) e
  rw [← e2]
  exact List.getElem_mem (by rw [← Lib.size_eq]; exact hk)
theorem number_text (D : ByteArray) (n : Nat) (hD : D.data.toList = decL n) : attrsV (⟨#[97, 61, 39, 38, 35]⟩ ++ D ++ ⟨#[39, 62]⟩ : ByteArray).data.toList 0 = ([([97], (fixS (n : Int)).data.toList)], false, (D.size : Int) + 7, true) := by
  have e : (⟨#[97, 61, 39, 38, 35]⟩ ++ D ++ ⟨#[39, 62]⟩ : ByteArray).data.toList = 97 :: 61 :: 39 :: ((38 :: 35 :: decL n) ++ [39, 62]) := by
    simp only [ByteArray.data_append, Array.toList_append, hD]; rfl
  rw [e, zero_some _ _ _ _ (number_told n), Lib.size_eq, hD]; rfl
set_option maxRecDepth 100000 in
set_option maxHeartbeats 8000000 in
theorem walk (a0 : ByteArray) (a1 : Int) (w0 : a0.size ≤ maxLen) (w1 : (Lit.int .u32 a1).wf = true) (w : World) (hT : LaidAt w) :
    Calls Tryd.prog 7 #[.string a0, .int .u32 a1] w fun e w' => e = .returned (.bool true) ∧ Below w.heap.size w w' := by
  have hb1 : 0 ≤ a1 ∧ a1 ≤ 4294967295 := by simpa [Lit.wf, IntKind.min, IntKind.max, IntKind.signed, IntKind.bits] using w1
  obtain ⟨h10, h11⟩ := hb1
  clear w0 w1
  have HW := Lib.hid hT
  clear hT
  by_cases hlen : 300 < a0.size
  · go_enter Tryd.func7, Tryd.ntmps7
    go_wp2_with (fail)
    refine (attAwake_any w HW.out).mono ?_
    rintro e w1 ⟨rfl, c1⟩
    go_wp2
    go_ret
    exact ⟨rfl, c1⟩
  have hs : a0.size ≤ 300 := by omega
  obtain ⟨n, hna⟩ : ∃ n : Nat, (n : Int) = a1 := ⟨a1.toNat, by omega⟩
  have hn : n ≤ 4294967295 := by omega
  have HDec := fun w => Lib.hid (decimal n n w (Nat.le_refl _) hn)
  have HFix := fun w h => Lib.hid (fix (n : Int) w (by omega) (by omega) h)
  have hDb : (decS n).size ≤ 10 := by rw [decS_size]; exact dec_short 9 n (by omega)
  have HV2 := Lib.hid (number_text (decS n) n rfl)
  have z1 : (ByteArray.mk #[97, 61, 39, 38, 35]).size = 5 := rfl
  have z2 : (ByteArray.mk #[39, 62]).size = 2 := rfl
  obtain ⟨D, hD⟩ : ∃ D, decS n = D := ⟨_, rfl⟩
  rw [hD] at HDec hDb HV2
  obtain ⟨F, hF⟩ : ∃ F, fixS (n : Int) = F := ⟨_, rfl⟩
  rw [hF] at HFix HV2
  rw [hna] at HDec HFix
  have HR1 := fun w h => Lib.hid (attrs_any a0 0 w (by omega) (by decide) h)
  have HR2 := fun w h => Lib.hid (attrs_any (⟨#[97, 61, 39, 38, 35]⟩ ++ D ++ ⟨#[39, 62]⟩) 0 w (by rw [ByteArray.size_append, ByteArray.size_append, z1, z2]; omega) (by decide) h)
  clear hD hF hna hn hlen z1 z2
  go_enter Tryd.func7, Tryd.ntmps7
  go_wp2_with (fail)
  refine (attAwake_any w HW.out).mono ?_
  rintro e w1 ⟨rfl, c1⟩
  go_wp2_with (fail)
  refine (HR1 _ (HW.out.below c1)).out.mono ?_
  rintro e w2 ⟨ad, len, cap, l, self, n1, ok, rfl, hr, hv, b2⟩
  have c2 := c1.trans (b2.mono c1.size)
  obtain ⟨hg, hsm⟩ := zero_good _ _ _ _ _ hv
  rw [← Lib.size_eq] at hsm
  have HG := Lib.hid hg
  have HSm := Lib.hid hsm
  have hl := hr.1
  have m1 := hr.2.1
  have m2 := hr.2.2.1
  unfold maxLen at m2
  have K := Lib.hid hr
  clear hr hv hg hsm
  go_wp2_with (fail)
  go_loopw [10] (fun v wr => ∃ i d : Nat, v = .int .i64 (i : Int) ∧ wr = w2.drewN d ∧ i ≤ l.length) (fun v _ => l.length - (intOf v).toNat)
  case atStart => exact ⟨0, 0, rfl, rfl, Nat.zero_le _⟩
  case round =>
    obtain ⟨i, d, rfl, rfl, hi⟩ := hrel
    by_cases hlt : i < l.length
    · obtain ⟨x, rfl, x1, x2⟩ := K.out.2.2.2 i hlt
      rw [add_succ] at x2
      have h0 := no0_all HG.out i hlt
      have hz := HSm.out l[i] (List.getElem_mem hlt)
      obtain ⟨p, hp⟩ : ∃ p, l[i] = p := ⟨_, rfl⟩
      rw [hp] at x1 x2 h0 hz
      obtain ⟨p1, p2⟩ := p
      simp only at x1 x2 h0 hz
      unfold strV at x1 x2
      obtain ⟨P, hP⟩ : ∃ P : ByteArray, ⟨p1.toArray⟩ = P := ⟨_, rfl⟩
      obtain ⟨Q, hQ⟩ : ∃ Q : ByteArray, ⟨p2.toArray⟩ = Q := ⟨_, rfl⟩
      rw [hP] at x1
      rw [hQ] at x2
      have hPs : P.size ≤ 900 := by rw [← hP, Lib.size_eq, List.toList_toArray]; omega
      have hQs : Q.size ≤ 2700 := by rw [← hQ, Lib.size_eq, List.toList_toArray]; omega
      have g1 : ¬ 9223372036854775807 < P.size + Q.size := by omega
      have hAll : 0 ∉ (P ++ Q).data.toList := by
        rw [ByteArray.data_append, Array.toList_append, ← hP, ← hQ]; exact h0
      obtain ⟨A, hA⟩ : ∃ A, P ++ Q = A := ⟨_, rfl⟩
      rw [hA] at hAll
      have hAs : A.size ≤ 3600 := by rw [← hA, ByteArray.size_append]; omega
      have HA := Lib.hid hA
      have HB := Lib.hid (fun k hk => byte_not0 A hAll k hk)
      clear hA hAll hP hQ h0 hz hp
      go_wp2
      go_region
      go_wp2
      rw [HA.out]
      go_loopw [12] (fun v wr => ∃ k : Nat, v = .int .i64 (k : Int) ∧ w2.drewN (d + 1) = wr ∧ k ≤ A.size) (fun v _ => A.size - (intOf v).toNat)
      case atStart => exact ⟨0, rfl, rfl, Nat.zero_le _⟩
      case round =>
        obtain ⟨k, rfl, rfl, hk⟩ := hrel
        by_cases hkt : k < A.size
        · have b0 := HB.out k hkt
          go_wp2
          go_roundw
          case rel => exact ⟨k + 1, by simp, trivial, by omega⟩
          case measure => simp [intOf]; omega
        · go_wp2
          go_roundw
          case rel => exact ⟨i + 1, _, by simp, rfl, by omega⟩
          case measure => simp [intOf]; omega
    · have c3 := c2.trans (dr_below _ w2 d)
      go_wp2_with (fail)
      refine (HDec _).out.mono ?_
      rintro e w3 ⟨rfl, b3⟩
      have c4 := c3.trans (b3.mono c3.size)
      go_wp2_with (fail)
      refine (HR2 _ (HW.out.below c4)).out.mono ?_
      rintro e w4 ⟨ad4, len4, cap4, l4, self4, n4, ok4, rfl, hr4, hv4, b4⟩
      rw [HV2.out] at hv4
      simp only [Prod.mk.injEq] at hv4
      obtain ⟨rfl, rfl, rfl, rfl⟩ := hv4
      have c5 := c4.trans (b4.mono c4.size)
      have K4 := Lib.hid hr4
      clear hr4
      go_wp2_with (fail)
      refine (HFix _ (HW.out.below c5).tab).out.mono ?_
      rintro e w5 ⟨rfl, rfl⟩
      go_wp2_with (fail)
      refine (refSame_any _ _ _ _ _ _ [([97], F.data.toList)] [([97], F.data.toList)] _ (K4.out.below ((Below.refl _ w4).alloc (Nat.le_refl _) _) (Nat.le_refl _)) (isRows_put w4 w4.heap.size [([97], F.data.toList)] 27 rfl (show 1 ≤ 1048576 by decide) _ rfl)).mono ?_
      rintro e w6 ⟨rfl, d6, rfl⟩
      go_wp2
      go_ret
      exact ⟨ret_bool (by simp), (c5.alloc c5.size _).trans (dr_below _ _ d6)⟩
  -- go_wp2
  -- go_ret
  -- exact ⟨rfl, by repeat (first | exact Grown.refl _ | apply Grown.drew | apply Grown.alloc)⟩

theorem laid_met (os : Os) : laidMet Tryd.prog Rows.attrsCleanRow.laid ((laidWorld os).forCall (fun _ _ => 0) ⟨#[], #[.string ByteArray.empty, .int .u32 0], []⟩).memory :=
  laidMet_of_run' 8 (by kernel_rfl) (by kernel_rfl)
theorem reads (os : Os) {H : Type} (enc : TypeId × Value → H) : ∃ places, DataW.whole enc Tryd.prog ((laidWorld os).forCall (fun _ _ => 0) ⟨#[], #[.string ByteArray.empty, .int .u32 0], []⟩).memory Tryd.f7.params.toList Rows.attrsCleanSpec.vars false (#[.string ByteArray.empty, .int .u32 0] : Array Value).toList 8 = some ([.lit (.string []), .lit (.int .u32 0)], [], places) :=
  ⟨[], by kernel_rfl⟩
set_option maxRecDepth 100000 in
theorem lifted (os : Os) (started : os.Started) (H : Type) (enc : TypeId × Value → H) (F : Stop.Interp) :
    ReturnsInHanded {} Tryd.checked os 7 .any ((OpenSpec.ofChange Rows.attrsCleanSpec).preRow enc Tryd.prog Tryd.f7 Rows.attrsCleanRow.domain false Rows.attrsCleanRow.laid) (((OpenSpec.ofChange Rows.attrsCleanSpec).at F).post enc Tryd.prog Tryd.f7 false true false false) := by
  obtain ⟨places, hx⟩ := reads os enc
  refine returnsInHanded_of_row (C := Tryd.checked) (s := OpenSpec.ofChange Rows.attrsCleanSpec) own started (by kernel_rfl) Tryd.func7
    (witness_row_at (enc := enc) (C := Tryd.checked) false (laidWorld os) #[.string ByteArray.empty, .int .u32 0] rfl (by kernel_rfl) (by kernel_rfl) (by kernel_rfl)
      (OpenSpec.preRow_of_cond 8 hx (by kernel_rfl) (fun k hk => by cases hk) (by kernel_rfl) (laid_met os))) ?_
  intro W base args ds gs before hval0 hW _ _ _ hL _ _
  have hval : ∀ (j : Nat) t v, Tryd.f7.params[j]? = some t → args[j]? = some v → Value.okWide Tryd.prog W .any base t v := hval0
  have hW' := hW
  obtain ⟨p, q, hA0, hV, rfl, hfz, hnd⟩ := hW
  have hA : DataW.TrodAll enc Tryd.prog W 0 (fun _ => true) true Tryd.f7.params.toList args.toList ds p := hA0
  rw [Tryd.params7] at hA hval
  obtain ⟨v0, vs0, d0, ds0, p0, q0, hargs, rfl, rfl, h0, r0⟩ := trodAll_cons hA
  obtain ⟨v1, vs1, d1, ds1, p1, q1, rfl, rfl, rfl, h1, r1⟩ := trodAll_cons r0
  obtain ⟨rfl, rfl, rfl⟩ := trodAll_nil r1
  obtain rfl : args = #[v0, v1] := by cases args; simp_all
  obtain ⟨rfl, rfl⟩ := trodVars_none hV
  obtain ⟨a0, rfl, rfl, rfl, w0⟩ := open_string Tryd.underlying9 (hval 0 9 v0 rfl rfl) h0
  obtain ⟨a1, rfl, rfl, rfl, w1⟩ := open_int Tryd.underlying34 (hval 1 34 v1 rfl rfl) h1
  clear hA0 hval0
  refine (walk a0 a1 w0 w1 W (tabAt_of hL)).mono fun e W' ⟨he, bel⟩ => ?_
  subst he
  exact ⟨_, rfl, _, _, _, [], _, [], hW', trodAll_mk1 (shut_bool Tryd.underlying4 _), (trodAll_cons_mk (shut_string Tryd.underlying9 w0) (trodAll_cons_mk (shut_int Tryd.underlying34 w1) trodAll_mk0)), rfl, bel.frame _, fun h => by cases h⟩

theorem said : Rows.AttrsCleanSaid :=
  OpenClaim.holds_of_cond 7 Tryd.f7 rfl rfl rfl rfl rfl rfl rfl ⟨rfl, rfl, rfl, rfl, rfl⟩ rfl rfl rfl rfl rfl (by kernel_rfl) Tryd.func7 (by kernel_rfl)
    (of_decide_eq_true (by kernel_rfl)) (by unfold Func.isWrapper; first | (rw [if_pos (by decide +kernel)]; kernel_rfl) | (rw [if_neg (by decide +kernel)]; exact ⟨rfl, rfl⟩))
    (fun os started H enc _ F => by rw [OpenClaim.pre_eq_preRow]; exact lifted os started H enc F)
theorem plain (f : FuncId) (fn : Func) (hf : Tryd.pinned.checked.prog.funcNamed "flail/flaillaw08.AttrsClean" = some f) (hfn : Tryd.pinned.checked.prog.funcs[f]? = some fn) :
    true = Tryd.pinned.checked.prog.looks [] ∧ ∀ (j : Nat) t, fn.params[j]? = some t → Tryd.pinned.checked.prog.wantsStandIn t = false := by
  obtain rfl : f = 7 := Option.some.inj ((show Tryd.prog.funcNamed "flail/flaillaw08.AttrsClean" = some 7 by kernel_rfl).symm.trans hf) |>.symm
  obtain rfl : fn = Tryd.f7 := (Option.some.inj (Tryd.func7.symm.trans hfn)).symm
  refine ⟨by kernel_rfl, fun j t ht => ?_⟩
  rw [Tryd.params7] at ht
  have hm : t ∈ [9, 34] := by simpa using Array.mem_of_getElem? ht
  have hall : ([9, 34].all fun u => !Tryd.prog.wantsStandIn u) = true := by kernel_rfl
  exact (show Tryd.prog.wantsStandIn t = false by simpa using List.all_eq_true.1 hall t hm)
/-- the statement: the row's card -/
theorem proved : Rows.AttrsCleanCardSaid :=
  Claim7.holds_tied_plain_at .later [] _ _ _ _ said (fun _ h => by cases h) (by kernel_rfl) (fun _ h => by cases h) attrsClean_row_tie rfl ⟨rfl, rfl⟩ (by kernel_rfl) rfl plain (by kernel_rfl)
end Go.Proofs.YtpdmnnfbdeiejaaDoor.attrsClean
