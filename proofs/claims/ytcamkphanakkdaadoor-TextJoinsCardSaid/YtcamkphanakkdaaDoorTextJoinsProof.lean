/-
  The law TextJoins of flail/flaillaw14 answers true for every input, and changes nothing that was there. Condition, which the card ties to the program's text: when the call begins, the package variables that the row lists hold what that text lays in them (math/bits.deBruijn32tab, math/bits.deBruijn64tab, internal/strconv.uint64pow10, strconv.ErrRange, strconv.ErrSyntax, flail/number.others).
-/
import Derived.Test.YtcamkphanakkdaaDoorRows
import Derived.Test.YtcamkphanakkdaaDoorTxtAwake
import Derived.Test.YtcamkphanakkdaaDoorCards
import Derived.Test.YtcamkphanakkdaaDoorP6
import Derived.WalkKit
import Derived.ProofKit
import Derived.ChangeOld
import Derived.Below
import Derived.OpenShut
import Derived.ShutString
namespace Go.Proofs.YtcamkphanakkdaaDoor.textJoins
open Go.ChangeShapes Go.WideShapes Go.ChangeAt Go.RowKit
open Go.ChangeMaps (open_string shut_string)
set_option linter.unusedVariables false      -- a walk need not use every 'w<i>' (that an integer argument fits its kind)

theorem own : ownKnob Tryd.prog.godebug = none := by kernel_rfl

theorem opt_at (s : ByteArray) (i : Nat) (h : i < s.size) : s.data.toList[i]? = some s[i] := by
  rw [List.getElem?_eq_getElem (by rw [← Lib.size_eq]; exact h)]; rfl
/-- what is read of a text ahead of what begins -/
theorem joins_read (a p b : ByteArray) (w : World) (h : 60 ∉ a.data.toList) (hp : mkB (p.data.toList ++ b.data.toList) = true) (hs : a.size + p.size + b.size ≤ 1048576) (hl : LaidAt w) :
    Calls Tryd.prog 9 #[.string (a ++ p ++ b), .int .i64 0] w fun e w' => e = .returned (.tuple #[.string ⟨(ddL false a.data.toList).toArray⟩, .int .i64 (a.size : Int)]) ∧ Below w.heap.size w w' := by
  have := txtRead_any (a ++ p ++ b) 0 w (by rw [ByteArray.size_append, ByteArray.size_append]; omega) (by decide) hl
  obtain ⟨h1, h2⟩ := txt_ahead a.data.toList (p.data.toList ++ b.data.toList) h (next_here _ hp)
  rw [ByteArray.data_append, Array.toList_append, ByteArray.data_append, Array.toList_append, List.append_assoc, h1, h2, ← Lib.size_eq] at this
  exact this
set_option maxRecDepth 100000 in
set_option maxHeartbeats 8000000 in
theorem walk (a0 : ByteArray) (a1 : ByteArray) (a2 : Int) (w0 : a0.size ≤ maxLen) (w1 : a1.size ≤ maxLen) (w2 : (Lit.int .u8 a2).wf = true) (w : World) (hT : LaidAt w) :
    Calls Tryd.prog 5 #[.string a0, .string a1, .int .u8 a2] w fun e w' => e = .returned (.bool true) ∧ Below w.heap.size w w' := by
  have hb2 : 0 ≤ a2 ∧ a2 ≤ 255 := by simpa [Lit.wf, IntKind.min, IntKind.max, IntKind.signed, IntKind.bits] using w2
  obtain ⟨h20, h21⟩ := hb2
  clear w0 w1 w2
  have HW := Lib.hid hT
  clear hT
  by_cases hlen : 300 < a0.size ∨ 300 < a1.size
  · have hc : decide ((300 : Int) < (a0.size : Int)) = true ∨ decide ((300 : Int) < (a0.size : Int)) = false ∧ decide ((300 : Int) < (a1.size : Int)) = true := by
      simp only [decide_eq_true_eq, decide_eq_false_iff_not]; omega
    clear hlen
    rcases hc with hc | ⟨hc, hd⟩
    all_goals
      go_enter Tryd.func5, Tryd.ntmps5
      go_wp2_with (fail)
      refine (txtAwake_any w HW.out).mono ?_
      rintro e w1 ⟨rfl, c1⟩
      go_wp2
      go_ret
      exact ⟨rfl, c1⟩
  have hs0 : a0.size ≤ 300 := by omega
  have hs1 : a1.size ≤ 300 := by omega
  have d0 : decide ((300 : Int) < (a0.size : Int)) = false := decide_eq_false (by omega)
  have d1 : decide ((300 : Int) < (a1.size : Int)) = false := decide_eq_false (by omega)
  have hq : a2 % 6 = 0 ∨ a2 % 6 = 1 ∨ a2 % 6 = 2 ∨ a2 % 6 = 3 ∨ a2 % 6 = 4 ∨ a2 % 6 = 5 := by omega
  have HQ := Lib.hid hq
  clear hlen hq
  go_enter Tryd.func5, Tryd.ntmps5
  go_wp2_with (fail)
  refine (txtAwake_any w HW.out).mono ?_
  rintro e w1 ⟨rfl, c1⟩
  have B1 := Lib.hid c1
  go_wp2
  clear d0 d1
  go_loopw [8] (fun v wr => ∃ i : Nat, v = .int .i64 (i : Int) ∧ w1 = wr ∧ i ≤ a0.size ∧ Hid (∀ j, j < i → a0.data.toList[j]? ≠ some 60)) (fun v _ => a0.size - (intOf v).toNat)
  case atStart => exact ⟨0, rfl, rfl, Nat.zero_le _, Lib.hid fun j h => absurd h (by omega)⟩
  case round =>
    obtain ⟨i, rfl, rfl, hi, HI⟩ := hrel
    by_cases hlt : i < a0.size
    · have ho := opt_at a0 i hlt
      have HO := Lib.hid ho
      clear ho
      by_cases c60 : a0[i] = 60
      · have b60 : (((a0[i].toNat : Nat) : Int) == 60) = true := by rw [c60]; rfl
        clear c60
        go_wp2
        go_ret
        exact ⟨rfl, c1⟩
      have b60 : (((a0[i].toNat : Nat) : Int) == 60) = false := by
        rw [beq_eq_false_iff_ne]; exact fun h => c60 (u8_eq _ 60 (by decide) h)
      have hn : ∀ j, j < i + 1 → a0.data.toList[j]? ≠ some 60 := fun j hj => by
        rcases Nat.lt_or_eq_of_le (Nat.le_of_lt_succ hj) with h1 | rfl
        · exact HI.out j h1
        · rw [HO.out]; exact fun e => c60 (Option.some.inj e)
      have HN := Lib.hid hn
      clear hn c60
      go_wp2
      go_roundw
      case rel => exact ⟨i + 1, by go_num, trivial, by omega, HN⟩
      case measure => simp [intOf]; omega
    · obtain rfl : i = a0.size := by omega
      have H60 := Lib.hid (no60 a0.data.toList (fun j hj => HI.out j (by rw [Lib.size_eq]; exact hj)))
      have HR := fun (p : ByteArray) hp (hs : p.size ≤ 3) w h => Lib.hid (joins_read a0 p a1 w H60.out hp (by omega) h)
      have HD := fun w h => Lib.hid (txDec_any a0 false w (by omega) h)
      obtain ⟨T, hT⟩ : ∃ T : ByteArray, (⟨(ddL false a0.data.toList).toArray⟩ : ByteArray) = T := ⟨_, rfl⟩
      rw [hT] at HD HR
      have R0 := HR ⟨#[60, 98]⟩ (mk_yes 98 _ (.inl rfl)) (by decide)
      have R1 := HR ⟨#[60, 47, 98]⟩ (mk_yes 47 _ (.inr (.inr (.inr ⟨rfl, by simp⟩)))) (by decide)
      have R2 := HR ⟨#[60, 33]⟩ (mk_yes 33 _ (.inr (.inl rfl))) (by decide)
      have R3 := HR ⟨#[60, 63]⟩ (mk_yes 63 _ (.inr (.inr (.inl rfl)))) (by decide)
      have R4 := HR ⟨#[60, 47, 62]⟩ (mk_yes 47 _ (.inr (.inr (.inr ⟨rfl, by simp⟩)))) (by decide)
      have R5 := HR ⟨#[60, 47, 32]⟩ (mk_yes 47 _ (.inr (.inr (.inr ⟨rfl, by simp⟩)))) (by decide)
      have p1 : ¬ 9223372036854775807 < a0.size + 2 := by omega
      have p2 : ¬ 9223372036854775807 < a0.size + 3 := by omega
      have p3 : ¬ 9223372036854775807 < a0.size + 2 + a1.size := by omega
      have p4 : ¬ 9223372036854775807 < a0.size + 3 + a1.size := by omega
      have C2 := Lib.hid (c1.alloc c1.size (.cells #[.string ⟨#[60, 98]⟩, .string ⟨#[60, 47, 98]⟩, .string ⟨#[60, 33]⟩, .string ⟨#[60, 63]⟩, .string ⟨#[60, 47, 62]⟩, .string ⟨#[60, 47, 32]⟩] 9))
      clear hT HI HR
      rcases HQ.out with hq | hq | hq | hq | hq | hq
      · go_wp2_with (fail)
        refine (R0 _ (HW.out.below C2.out)).out.mono ?_
        rintro e w2 ⟨rfl, c2⟩
        have B2 := Lib.hid (C2.out.trans (c2.mono C2.out.size))
        clear c2
        go_wp2_with (fail)
        refine (HD _ (HW.out.below B2.out)).out.mono ?_
        rintro e w3 ⟨rfl, c3⟩
        have B3 := Lib.hid (B2.out.trans (c3.mono B2.out.size))
        clear c3
        go_wp2
        go_ret
        exact ⟨ret_bool (by simp), B3.out⟩
      · go_wp2_with (fail)
        refine (R1 _ (HW.out.below C2.out)).out.mono ?_
        rintro e w2 ⟨rfl, c2⟩
        have B2 := Lib.hid (C2.out.trans (c2.mono C2.out.size))
        clear c2
        go_wp2_with (fail)
        refine (HD _ (HW.out.below B2.out)).out.mono ?_
        rintro e w3 ⟨rfl, c3⟩
        have B3 := Lib.hid (B2.out.trans (c3.mono B2.out.size))
        clear c3
        go_wp2
        go_ret
        exact ⟨ret_bool (by simp), B3.out⟩
      · go_wp2_with (fail)
        refine (R2 _ (HW.out.below C2.out)).out.mono ?_
        rintro e w2 ⟨rfl, c2⟩
        have B2 := Lib.hid (C2.out.trans (c2.mono C2.out.size))
        clear c2
        go_wp2_with (fail)
        refine (HD _ (HW.out.below B2.out)).out.mono ?_
        rintro e w3 ⟨rfl, c3⟩
        have B3 := Lib.hid (B2.out.trans (c3.mono B2.out.size))
        clear c3
        go_wp2
        go_ret
        exact ⟨ret_bool (by simp), B3.out⟩
      · go_wp2_with (fail)
        refine (R3 _ (HW.out.below C2.out)).out.mono ?_
        rintro e w2 ⟨rfl, c2⟩
        have B2 := Lib.hid (C2.out.trans (c2.mono C2.out.size))
        clear c2
        go_wp2_with (fail)
        refine (HD _ (HW.out.below B2.out)).out.mono ?_
        rintro e w3 ⟨rfl, c3⟩
        have B3 := Lib.hid (B2.out.trans (c3.mono B2.out.size))
        clear c3
        go_wp2
        go_ret
        exact ⟨ret_bool (by simp), B3.out⟩
      · go_wp2_with (fail)
        refine (R4 _ (HW.out.below C2.out)).out.mono ?_
        rintro e w2 ⟨rfl, c2⟩
        have B2 := Lib.hid (C2.out.trans (c2.mono C2.out.size))
        clear c2
        go_wp2_with (fail)
        refine (HD _ (HW.out.below B2.out)).out.mono ?_
        rintro e w3 ⟨rfl, c3⟩
        have B3 := Lib.hid (B2.out.trans (c3.mono B2.out.size))
        clear c3
        go_wp2
        go_ret
        exact ⟨ret_bool (by simp), B3.out⟩
      · go_wp2_with (fail)
        refine (R5 _ (HW.out.below C2.out)).out.mono ?_
        rintro e w2 ⟨rfl, c2⟩
        have B2 := Lib.hid (C2.out.trans (c2.mono C2.out.size))
        clear c2
        go_wp2_with (fail)
        refine (HD _ (HW.out.below B2.out)).out.mono ?_
        rintro e w3 ⟨rfl, c3⟩
        have B3 := Lib.hid (B2.out.trans (c3.mono B2.out.size))
        clear c3
        go_wp2
        go_ret
        exact ⟨ret_bool (by simp), B3.out⟩
  -- go_wp2
  -- go_ret
  -- exact ⟨rfl, by repeat (first | exact Grown.refl _ | apply Grown.drew | apply Grown.alloc)⟩

theorem laid_met (os : Os) : laidMet Tryd.prog Rows.textJoinsRow.laid ((laidWorld os).forCall (fun _ _ => 0) ⟨#[], #[.string ByteArray.empty, .string ByteArray.empty, .int .u8 0], []⟩).memory :=
  laidMet_of_run' 8 (by kernel_rfl) (by kernel_rfl)
theorem reads (os : Os) {H : Type} (enc : TypeId × Value → H) : ∃ places, DataW.whole enc Tryd.prog ((laidWorld os).forCall (fun _ _ => 0) ⟨#[], #[.string ByteArray.empty, .string ByteArray.empty, .int .u8 0], []⟩).memory Tryd.f5.params.toList Rows.textJoinsSpec.vars false (#[.string ByteArray.empty, .string ByteArray.empty, .int .u8 0] : Array Value).toList 8 = some ([.lit (.string []), .lit (.string []), .lit (.int .u8 0)], [], places) :=
  ⟨[], by kernel_rfl⟩
set_option maxRecDepth 100000 in
theorem lifted (os : Os) (started : os.Started) (H : Type) (enc : TypeId × Value → H) (F : Stop.Interp) :
    ReturnsInHanded {} Tryd.checked os 5 .any ((OpenSpec.ofChange Rows.textJoinsSpec).preRow enc Tryd.prog Tryd.f5 Rows.textJoinsRow.domain false Rows.textJoinsRow.laid) (((OpenSpec.ofChange Rows.textJoinsSpec).at F).post enc Tryd.prog Tryd.f5 false true false false) := by
  obtain ⟨places, hx⟩ := reads os enc
  refine returnsInHanded_of_row (C := Tryd.checked) (s := OpenSpec.ofChange Rows.textJoinsSpec) own started (by kernel_rfl) Tryd.func5
    (witness_row_at (enc := enc) (C := Tryd.checked) false (laidWorld os) #[.string ByteArray.empty, .string ByteArray.empty, .int .u8 0] rfl (by kernel_rfl) (by kernel_rfl) (by kernel_rfl)
      (OpenSpec.preRow_of_cond 8 hx (by kernel_rfl) (fun k hk => by cases hk) (by kernel_rfl) (laid_met os))) ?_
  intro W base args ds gs before hval0 hW _ _ _ hL hsh _
  have hval : ∀ (j : Nat) t v, Tryd.f5.params[j]? = some t → args[j]? = some v → Value.okWide Tryd.prog W .any base t v := hval0
  have hW' := hW
  obtain ⟨p, q, hA0, hV, rfl, hfz, hnd⟩ := hW
  have hA : DataW.TrodAll enc Tryd.prog W 0 (fun _ => true) true Tryd.f5.params.toList args.toList ds p := hA0
  rw [Tryd.params5] at hA hval
  obtain ⟨v0, vs0, d0, ds0, p0, q0, hargs, rfl, rfl, h0, r0⟩ := trodAll_cons hA
  obtain ⟨v1, vs1, d1, ds1, p1, q1, rfl, rfl, rfl, h1, r1⟩ := trodAll_cons r0
  obtain ⟨v2, vs2, d2, ds2, p2, q2, rfl, rfl, rfl, h2, r2⟩ := trodAll_cons r1
  obtain ⟨rfl, rfl, rfl⟩ := trodAll_nil r2
  obtain rfl : args = #[v0, v1, v2] := by cases args; simp_all
  obtain ⟨rfl, rfl⟩ := trodVars_none hV
  obtain ⟨a0, rfl, rfl, rfl, w0⟩ := open_string Tryd.underlying9 (hval 0 9 v0 rfl rfl) h0
  obtain ⟨a1, rfl, rfl, rfl, w1⟩ := open_string Tryd.underlying9 (hval 1 9 v1 rfl rfl) h1
  obtain ⟨a2, rfl, rfl, rfl, w2⟩ := open_int Tryd.underlying5 (hval 2 5 v2 rfl rfl) h2
  clear hA0 hval0
  refine (walk a0 a1 a2 w0 w1 w2 W (tabAt_of hL hsh)).mono fun e W' ⟨he, bel⟩ => ?_
  subst he
  exact ⟨_, rfl, _, _, _, [], _, [], hW', trodAll_mk1 (shut_bool Tryd.underlying4 _), (trodAll_cons_mk (shut_string Tryd.underlying9 w0) (trodAll_cons_mk (shut_string Tryd.underlying9 w1) (trodAll_cons_mk (shut_int Tryd.underlying5 w2) trodAll_mk0))), rfl, bel.frame _, fun h => by cases h⟩

theorem said : Rows.TextJoinsSaid :=
  OpenClaim.holds_of_cond 5 Tryd.f5 rfl rfl rfl rfl rfl rfl rfl ⟨rfl, rfl, rfl, rfl, rfl⟩ rfl rfl rfl rfl rfl (by kernel_rfl) Tryd.func5 (by kernel_rfl)
    (of_decide_eq_true (by kernel_rfl)) (by unfold Func.isWrapper; first | (rw [if_pos (by decide +kernel)]; kernel_rfl) | (rw [if_neg (by decide +kernel)]; exact ⟨rfl, rfl⟩))
    (fun os started H enc _ F => by rw [OpenClaim.pre_eq_preRow]; exact lifted os started H enc F)
theorem plain (f : FuncId) (fn : Func) (hf : Tryd.pinned.checked.prog.funcNamed "flail/flaillaw14.TextJoins" = some f) (hfn : Tryd.pinned.checked.prog.funcs[f]? = some fn) :
    true = Tryd.pinned.checked.prog.looks [] ∧ ∀ (j : Nat) t, fn.params[j]? = some t → Tryd.pinned.checked.prog.wantsStandIn t = false := by
  obtain rfl : f = 5 := Option.some.inj ((show Tryd.prog.funcNamed "flail/flaillaw14.TextJoins" = some 5 by kernel_rfl).symm.trans hf) |>.symm
  obtain rfl : fn = Tryd.f5 := (Option.some.inj (Tryd.func5.symm.trans hfn)).symm
  refine ⟨by kernel_rfl, fun j t ht => ?_⟩
  rw [Tryd.params5] at ht
  have hm : t ∈ [9, 5] := by first | simpa using Array.mem_of_getElem? ht | (have h := Array.mem_of_getElem? ht; simp at h ⊢; grind)
  have hall : ([9, 5].all fun u => !Tryd.prog.wantsStandIn u) = true := by kernel_rfl
  exact (show Tryd.prog.wantsStandIn t = false by simpa using List.all_eq_true.1 hall t hm)
/-- the statement: the row's card -/
theorem proved : Rows.TextJoinsCardSaid :=
  Claim7.holds_tied_plain_at .later [] _ _ _ _ said (fun _ h => by cases h) (by kernel_rfl) (fun _ h => by cases h) textJoins_row_tie rfl ⟨rfl, rfl⟩ (by kernel_rfl) rfl plain (by kernel_rfl)
end Go.Proofs.YtcamkphanakkdaaDoor.textJoins
