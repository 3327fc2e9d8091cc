/-
  The law TokNames of flail/flaillaw15 answers true for every input, and changes nothing that was there. Condition, which the card ties to the program's text: when the call begins, the package variables that the row lists hold what that text lays in them (math/bits.deBruijn32tab, math/bits.deBruijn64tab, internal/strconv.uint64pow10, strconv.ErrRange, strconv.ErrSyntax, flail/number.others).
-/
import Derived.Test.YtaebcplffgaonaaGreatDoorRows
import Derived.Test.YtaebcplffgaonaaGreatDoorTkAwake
import Derived.Test.YtaebcplffgaonaaGreatDoorQH
import Derived.Test.YtaebcplffgaonaaGreatDoorCards
import Derived.Test.YtaebcplffgaonaaGreatDoorP6
import Derived.WalkKit
import Derived.ProofKit
import Derived.ChangeOld
import Derived.Below
import Derived.OpenShut
import Derived.ShutString
namespace Go.Proofs.YtaebcplffgaonaaGreatDoor.tokNames
open Go.ChangeShapes Go.WideShapes Go.ChangeAt Go.RowKit
open Go.ChangeMaps (open_string shut_string)
set_option linter.unusedVariables false      -- a walk need not use every 'w<i>' (that an integer argument fits its kind)

theorem own : ownKnob Tryz.prog.godebug = none := by kernel_rfl

theorem nm_first (nm : Txt) (d : UInt8) (r : Txt) (h : nm = d :: r) (h1 : 97 ≤ d.toNat) (h2 : d.toNat ≤ 122) : ∃ N : ByteArray, (⟨nm.toArray⟩ : ByteArray) = N ∧ ∃ h0 : 0 < N.size, N[0] = d ∧ ¬ N.toList = [] ∧ N.toList.isEmpty = false := by
  subst h
  refine ⟨_, rfl, by rw [Lib.size_eq, List.toList_toArray]; simp, rfl, ?_, ?_⟩
  · rw [ByteArray.toList_eq, List.toList_toArray]; simp
  · rw [ByteArray.toList_eq, List.toList_toArray]; rfl
set_option maxRecDepth 100000 in
set_option maxHeartbeats 8000000 in
theorem walk (a0 : ByteArray) (a1 : ByteArray) (a2 : ByteArray) (w0 : a0.size ≤ maxLen) (w1 : a1.size ≤ maxLen) (w2 : a2.size ≤ maxLen) (w : World) (hT : LaidAt w) :
    Calls Tryz.prog 9 #[.string a0, .string a1, .string a2] w fun e w' => e = .returned (.bool true) ∧ Below w.heap.size w w' := by
  clear w0 w1 w2
  have HW := Lib.hid hT
  clear hT
  by_cases hlen : 300 < a0.size ∨ 60 < a1.size ∨ 60 < a2.size
  · have hc : decide ((300 : Int) < (a0.size : Int)) = true ∨ decide ((300 : Int) < (a0.size : Int)) = false ∧ decide ((60 : Int) < (a1.size : Int)) = true ∨ decide ((300 : Int) < (a0.size : Int)) = false ∧ decide ((60 : Int) < (a1.size : Int)) = false ∧ decide ((60 : Int) < (a2.size : Int)) = true := by
      simp only [decide_eq_true_eq, decide_eq_false_iff_not]; omega
    clear hlen
    rcases hc with hc | ⟨hc, hd⟩ | ⟨hc, hd, he⟩
    all_goals
      go_enter Tryz.func9, Tryz.ntmps9
      go_wp2_with (fail)
      refine (tkAwake_any w HW.out).mono ?_
      rintro e w1 ⟨rfl, c1⟩
      go_wp2
      go_ret
      exact ⟨rfl, c1⟩
  have d0 : decide ((300 : Int) < (a0.size : Int)) = false := decide_eq_false (by omega)
  have d1 : decide ((60 : Int) < (a1.size : Int)) = false := decide_eq_false (by omega)
  have d2 : decide ((60 : Int) < (a2.size : Int)) = false := decide_eq_false (by omega)
  have hs0 : a0.size ≤ 300 := by omega
  have hs1 : a1.size ≤ 60 := by omega
  have hs2 : a2.size ≤ 60 := by omega
  have H1 := fun w h => Lib.hid (tokTok_any a0 0 a1 w (by omega) (by omega) (by decide) h)
  have H2 := fun w h => Lib.hid (tokTok_any a0 0 a2 w (by omega) (by omega) (by decide) h)
  have hok := tok_ok a1.data.toList a0.data.toList
  rw [tok_data] at H1 H2 hok
  obtain ⟨T, hT⟩ : ∃ T, joinL (toksL a0.data.toList) = T := ⟨_, rfl⟩
  rw [hT] at H1 H2 hok
  have HOK := Lib.hid hok
  clear hT hlen hok
  go_enter Tryz.func9, Tryz.ntmps9
  go_wp2_with (fail)
  refine (tkAwake_any w HW.out).mono ?_
  rintro e w1 ⟨rfl, c1⟩
  have B1 := Lib.hid c1
  clear c1
  go_wp2_with (fail)
  refine (H1 _ (HW.out.below B1.out)).out.mono ?_
  rintro e w2 ⟨x, l, c, rfl, t2, c2⟩
  have B2 := Lib.hid (B1.out.trans (c2.mono B1.out.size))
  have hll := t2.1
  have hm := t2.2.2.1
  have hlc := t2.2.1
  unfold maxLen at hm
  have T2 := Lib.hid t2.toks
  clear c2 t2
  go_wp2
  clear d0 d1 d2
  go_loopw [9] (fun v wr => ∃ i : Nat, v = .int .i64 (i : Int) ∧ w2 = wr ∧ i ≤ l) (fun v _ => l - (intOf v).toNat)
  case atStart => exact ⟨0, rfl, rfl, Nat.zero_le _⟩
  case round =>
    obtain ⟨i, rfl, rfl, hi⟩ := hrel
    by_cases hlt : i < l
    · obtain ⟨x, ad, ln, cp, rfl, xc, xr⟩ := T2.out.2.2.2 i (by omega)
      have hti := HOK.out T[i] (List.getElem_mem (by omega))
      obtain ⟨x0, x1, x2, x3, x4⟩ := xc.asked
      simp only at x0 x1 x2 x3 x4
      generalize T[i] = t at hti x0 x1 x2 x3 x4 xr
      have hrl := xr.1
      rcases hti.kinds with hk | hk | hk | hk | hk
      · obtain ⟨h1, h2⟩ := hti.text hk
        rw [hk] at x0
        rw [h2] at x1
        obtain ⟨e1, e2, e3⟩ := not_empty t.text h1
        clear hti hk h1 h2 xr xc hrl
        go_wp2
        go_roundw
        case rel => exact ⟨i + 1, by go_num, trivial, by omega⟩
        case measure => simp [intOf]; omega
      · obtain ⟨h1, d, r, h2, h3, h4⟩ := hti.tag (.inl hk)
        rw [hk] at x0
        rw [h1] at x2
        obtain ⟨N, hN, h0, hd, e1, e2⟩ := nm_first t.name d r h2 h3 h4
        rw [hN] at x1
        have g1 : decide (((N[0].toNat : Nat) : Int) < 97) = false := decide_eq_false (by rw [hd]; omega)
        have g2 : decide ((122 : Int) < ((N[0].toNat : Nat) : Int)) = false := decide_eq_false (by rw [hd]; omega)
        clear hti hk h1 h2 h3 h4 xr xc hrl hN hd
        go_wp2
        go_roundw
        case rel => exact ⟨i + 1, by go_num, trivial, by omega⟩
        case measure => simp [intOf]; omega
      · obtain ⟨h1, d, r, h2, h3, h4⟩ := hti.tag (.inr hk)
        rw [hk] at x0
        rw [h1] at x2
        obtain ⟨N, hN, h0, hd, e1, e2⟩ := nm_first t.name d r h2 h3 h4
        rw [hN] at x1
        have g1 : decide (((N[0].toNat : Nat) : Int) < 97) = false := decide_eq_false (by rw [hd]; omega)
        have g2 : decide ((122 : Int) < ((N[0].toNat : Nat) : Int)) = false := decide_eq_false (by rw [hd]; omega)
        clear hti hk h1 h2 h3 h4 xr xc hrl hN hd
        go_wp2
        go_roundw
        case rel => exact ⟨i + 1, by go_num, trivial, by omega⟩
        case measure => simp [intOf]; omega
      · obtain ⟨h1, h2⟩ := hti.rest (.inl hk)
        rw [hk] at x0
        rw [h1] at x1
        obtain rfl : ln = 0 := by rw [← hrl, h2]; rfl
        clear hti hk h1 h2 xr xc hrl
        go_wp2
        go_roundw
        case rel => exact ⟨i + 1, by go_num, trivial, by omega⟩
        case measure => simp [intOf]; omega
      · obtain ⟨h1, h2⟩ := hti.rest (.inr hk)
        rw [hk] at x0
        rw [h1] at x1
        obtain rfl : ln = 0 := by rw [← hrl, h2]; rfl
        clear hti hk h1 h2 xr xc hrl
        go_wp2
        go_roundw
        case rel => exact ⟨i + 1, by go_num, trivial, by omega⟩
        case measure => simp [intOf]; omega
    · go_wp2_with (fail)
      refine (H2 _ (HW.out.below B2.out)).out.mono ?_
      rintro e w3 ⟨y, l', c', rfl, t3, c3⟩
      have B3 := Lib.hid (B2.out.trans (c3.mono B2.out.size))
      have T2 := Lib.hid (T2.out.below c3 (Nat.le_refl _))
      have HA := Lib.hid (refAll_any _ _ _ _ _ _ _ _ _ T2.out t3.toks)
      rw [decide_eq_true (rfl : T = T)] at HA
      clear c3 t3
      go_wp2_with (fail)
      refine HA.out.mono ?_
      rintro e w4 ⟨rfl, c4⟩
      go_wp2
      go_ret
      exact ⟨ret_bool (by simp), B3.out.trans (c4.mono B3.out.size)⟩
  -- go_wp2
  -- go_ret
  -- exact ⟨rfl, by repeat (first | exact Grown.refl _ | apply Grown.drew | apply Grown.alloc)⟩

theorem laid_met (os : Os) : laidMet Tryz.prog Rows.tokNamesRow.laid ((laidWorld os).forCall (fun _ _ => 0) ⟨#[], #[.string ByteArray.empty, .string ByteArray.empty, .string ByteArray.empty], []⟩).memory :=
  laidMet_of_run' 8 (by kernel_rfl) (by kernel_rfl)
theorem reads (os : Os) {H : Type} (enc : TypeId × Value → H) : ∃ places, DataW.whole enc Tryz.prog ((laidWorld os).forCall (fun _ _ => 0) ⟨#[], #[.string ByteArray.empty, .string ByteArray.empty, .string ByteArray.empty], []⟩).memory Tryz.f9.params.toList Rows.tokNamesSpec.vars false (#[.string ByteArray.empty, .string ByteArray.empty, .string ByteArray.empty] : Array Value).toList 8 = some ([.lit (.string []), .lit (.string []), .lit (.string [])], [], places) :=
  ⟨[], by kernel_rfl⟩
set_option maxRecDepth 100000 in
theorem lifted (os : Os) (started : os.Started) (H : Type) (enc : TypeId × Value → H) (F : Stop.Interp) :
    ReturnsInHanded {} Tryz.checked os 9 .any ((OpenSpec.ofChange Rows.tokNamesSpec).preRow enc Tryz.prog Tryz.f9 Rows.tokNamesRow.domain false Rows.tokNamesRow.laid) (((OpenSpec.ofChange Rows.tokNamesSpec).at F).post enc Tryz.prog Tryz.f9 false true false false) := by
  obtain ⟨places, hx⟩ := reads os enc
  refine returnsInHanded_of_row (C := Tryz.checked) (s := OpenSpec.ofChange Rows.tokNamesSpec) own started (by kernel_rfl) Tryz.func9
    (witness_row_at (enc := enc) (C := Tryz.checked) false (laidWorld os) #[.string ByteArray.empty, .string ByteArray.empty, .string ByteArray.empty] rfl (by kernel_rfl) (by kernel_rfl) (by kernel_rfl)
      (OpenSpec.preRow_of_cond 8 hx (by kernel_rfl) (fun k hk => by cases hk) (by kernel_rfl) (laid_met os))) ?_
  intro W base args ds gs before hval0 hW _ _ _ hL hsh _
  have hval : ∀ (j : Nat) t v, Tryz.f9.params[j]? = some t → args[j]? = some v → Value.okWide Tryz.prog W .any base t v := hval0
  have hW' := hW
  obtain ⟨p, q, hA0, hV, rfl, hfz, hnd⟩ := hW
  have hA : DataW.TrodAll enc Tryz.prog W 0 (fun _ => true) true Tryz.f9.params.toList args.toList ds p := hA0
  rw [Tryz.params9] at hA hval
  obtain ⟨v0, vs0, d0, ds0, p0, q0, hargs, rfl, rfl, h0, r0⟩ := trodAll_cons hA
  obtain ⟨v1, vs1, d1, ds1, p1, q1, rfl, rfl, rfl, h1, r1⟩ := trodAll_cons r0
  obtain ⟨v2, vs2, d2, ds2, p2, q2, rfl, rfl, rfl, h2, r2⟩ := trodAll_cons r1
  obtain ⟨rfl, rfl, rfl⟩ := trodAll_nil r2
  obtain rfl : args = #[v0, v1, v2] := by cases args; simp_all
  obtain ⟨rfl, rfl⟩ := trodVars_none hV
  obtain ⟨a0, rfl, rfl, rfl, w0⟩ := open_string Tryz.underlying9 (hval 0 9 v0 rfl rfl) h0
  obtain ⟨a1, rfl, rfl, rfl, w1⟩ := open_string Tryz.underlying9 (hval 1 9 v1 rfl rfl) h1
  obtain ⟨a2, rfl, rfl, rfl, w2⟩ := open_string Tryz.underlying9 (hval 2 9 v2 rfl rfl) h2
  clear hA0 hval0
  refine (walk a0 a1 a2 w0 w1 w2 W (tabAt_of hL hsh)).mono fun e W' ⟨he, bel⟩ => ?_
  subst he
  exact ⟨_, rfl, _, _, _, [], _, [], hW', trodAll_mk1 (shut_bool Tryz.underlying4 _), (trodAll_cons_mk (shut_string Tryz.underlying9 w0) (trodAll_cons_mk (shut_string Tryz.underlying9 w1) (trodAll_cons_mk (shut_string Tryz.underlying9 w2) trodAll_mk0))), rfl, bel.frame _, fun h => by cases h⟩

theorem said : Rows.TokNamesSaid :=
  OpenClaim.holds_of_cond 9 Tryz.f9 rfl rfl rfl rfl rfl rfl rfl ⟨rfl, rfl, rfl, rfl, rfl⟩ rfl rfl rfl rfl rfl (by kernel_rfl) Tryz.func9 (by kernel_rfl)
    (of_decide_eq_true (by kernel_rfl)) (by unfold Func.isWrapper; first | (rw [if_pos (by decide +kernel)]; kernel_rfl) | (rw [if_neg (by decide +kernel)]; exact ⟨rfl, rfl⟩))
    (fun os started H enc _ F => by rw [OpenClaim.pre_eq_preRow]; exact lifted os started H enc F)
theorem plain (f : FuncId) (fn : Func) (hf : Tryz.pinned.checked.prog.funcNamed "flail/flaillaw15.TokNames" = some f) (hfn : Tryz.pinned.checked.prog.funcs[f]? = some fn) :
    true = Tryz.pinned.checked.prog.looks [] ∧ ∀ (j : Nat) t, fn.params[j]? = some t → Tryz.pinned.checked.prog.wantsStandIn t = false := by
  obtain rfl : f = 9 := Option.some.inj ((show Tryz.prog.funcNamed "flail/flaillaw15.TokNames" = some 9 by kernel_rfl).symm.trans hf) |>.symm
  obtain rfl : fn = Tryz.f9 := (Option.some.inj (Tryz.func9.symm.trans hfn)).symm
  refine ⟨by kernel_rfl, fun j t ht => ?_⟩
  rw [Tryz.params9] at ht
  have hm : t ∈ [9] := by first | simpa using Array.mem_of_getElem? ht | (have h := Array.mem_of_getElem? ht; simp at h ⊢; grind)
  have hall : ([9].all fun u => !Tryz.prog.wantsStandIn u) = true := by kernel_rfl
  exact (show Tryz.prog.wantsStandIn t = false by simpa using List.all_eq_true.1 hall t hm)
/-- the statement: the row's card -/
theorem proved : Rows.TokNamesCardSaid :=
  Claim7.holds_tied_plain_at .later [] _ _ _ _ said (fun _ h => by cases h) (by kernel_rfl) (fun _ h => by cases h) tokNames_row_tie rfl ⟨rfl, rfl⟩ (by kernel_rfl) rfl plain (by kernel_rfl)
end Go.Proofs.YtaebcplffgaonaaGreatDoor.tokNames
