/-
  The law ExtractPlain of flail/flaillaw20 answers true for every input, and changes nothing that was there. Condition, which the card ties to the program's text: when the call begins, the package variables that the row lists hold what that text lays in them (math/bits.deBruijn32tab, math/bits.deBruijn64tab, internal/strconv.uint64pow10, strconv.ErrRange, strconv.ErrSyntax, flail/number.others).
-/
import Derived.Test.YtpmdcppnlggckaaGreatDoorRows
import Derived.Test.YtpmdcppnlggckaaGreatDoorExtAwake
import Derived.Test.YtpmdcppnlggckaaGreatDoorExtMath
import Derived.Test.YtpmdcppnlggckaaGreatDoorCards
import Derived.Test.YtpmdcppnlggckaaGreatDoorP6
import Derived.WalkKit
import Derived.ProofKit
import Derived.OpenShut
import Derived.ShutString
import Derived.ChangeOld
import Derived.Below
namespace Go.Proofs.YtpmdcppnlggckaaGreatDoor.extractPlain
open Go.ChangeShapes Go.WideShapes Go.ChangeAt Go.RowKit
open Go.ChangeMaps (open_string shut_string)
set_option linter.unusedVariables false

theorem own : ownKnob Tryz.prog.godebug = none := by kernel_rfl
theorem laidOut : laidOutB Tryz.prog = true := by kernel_rfl

/-- WHAT THE WALK IS TOLD OF A SLICE OF INTEGERS THAT CAME IN: it is nil; or it leads to a row of 'cap' cells, the numbers 'zs' (the first 'len' are its elements, the rest its spare room), each fitting its kind. -/
def IsRow (k : IntKind) (w : World) (a : Option Addr) (len cap : Nat) (zs : List Int) : Prop :=
  (a = none ∧ len = 0 ∧ cap = 0 ∧ zs = []) ∨
  ∃ x, a = some x ∧ len ≤ cap ∧ cap ≤ maxLen ∧ zs.length = cap ∧ (∀ i, i < zs.length → w.cell? (x.add i) = some (.int k (zs.getD i 0))) ∧ ∀ n ∈ zs, (Lit.int k n).wf = true

theorem take_more (l : Txt) (i : Nat) (h : i < l.length) : l.take (i + 1) = l.take i ++ [l[i]] := List.take_succ_eq_append_getElem h
theorem byte_ne (c d : UInt8) (h : c ≠ d) : (((c.toNat : Nat) : Int) == (d.toNat : Int)) = false := by
  rw [beq_eq_false_iff_ne]
  intro e
  exact h (UInt8.toNat_inj.1 (by omega))
theorem some_text20 (A : ByteArray) : (A.data.toList = [] ∧ A.toList = [] ∧ A.toList.isEmpty = true) ∨ (A.data.toList ≠ [] ∧ ¬ A.toList = [] ∧ A.toList.isEmpty = false) := by
  rw [ByteArray.toList_eq]
  cases h : A.data.toList with
  | nil => exact .inl ⟨rfl, rfl, rfl⟩
  | cons c l => exact .inr ⟨by simp, by simp, rfl⟩
/-- none of the three bytes so far -/
def NoMarks (l : Txt) : Prop := ∀ c ∈ l, c ≠ 60 ∧ c ≠ 38 ∧ c ≠ 0
theorem plain_told (l : Txt) (hv : Lib.validD l = true) (hm : Lib.hasPrefix l markL = false) (h : NoMarks l) (W : ByteArray) (B : Bool) (hp : plS l = (W.data.toList, B)) : (⟨(extL l).toArray⟩ : ByteArray) = W := by
  rw [ext_plain l hv hm (fun e => (h 60 e).1 rfl) (fun e => (h 38 e).2.1 rfl) (fun e => (h 0 e).2.2 rfl), hp]
set_option maxRecDepth 100000 in
set_option maxHeartbeats 8000000 in
theorem walk (a0 : Option Addr) (len0 cap0 : Nat) (z0 : List Int) (w : World) (hT : LaidAt w) (w0 : IsRow .u8 w a0 len0 cap0 z0) :
    Calls Tryz.prog 5 #[.slice a0 len0 cap0] w fun e w' => e = .returned (.bool true) ∧ Below w.heap.size w w' := by
  obtain ⟨l, hl, hb⟩ := isBytes_row w0
  clear w0
  have HW := Lib.hid hT
  clear hT
  have HB := Lib.hid hb
  clear hb
  by_cases hlen : 300 < len0
  · clear hl
    go_enter Tryz.func5, Tryz.ntmps5
    go_wp2_with (go_at_call 9; refine (extAwake_any w HW.out).mono ?_; rintro e w1 ⟨rfl, hb1⟩)
    go_ret
    exact ⟨rfl, hb1⟩
  have hlen' : len0 ≤ 300 := by omega
  have HX := Lib.hid (ext_ok l (by omega))
  obtain ⟨S, hS, lS, sS⟩ := named l
  have HS := Lib.hid hS
  have HLS := Lib.hid lS
  have HN := Lib.hid hl
  clear hS lS sS hlen hl
  cases hv : Lib.validD l with
  | false =>
    have HV := Lib.hid hv
    clear hv
    go_enter Tryz.func5, Tryz.ntmps5
    go_wp2_with (fail)
    refine (extAwake_any w HW.out).mono ?_
    rintro e w1 ⟨rfl, c1⟩
    have B1 := Lib.hid c1
    clear c1
    have hcv := HB.out.conv_kept B1.out
    rw [HS.out] at hcv
    go_wp2_with (fail)
    refine (right_any S _).mono ?_
    rintro e w2 ⟨rfl, c2⟩
    rw [HLS.out, HV.out]
    go_wp2
    go_ret
    exact ⟨rfl, B1.out.trans (c2.mono B1.out.size)⟩
  | true =>
    have HV := Lib.hid hv
    clear hv
    cases hm : Lib.hasPrefix l markL with
    | true =>
      have HM := Lib.hid hm
      have HM2 : Hid (Lib.hasPrefix S.data.toList (ByteArray.mk #[239, 187, 191]).data.toList = true) := Lib.hid (by rw [HLS.out]; exact hm)
      obtain ⟨t, ht⟩ := (hasMark l).1 hm
      have h3 : 3 ≤ len0 := by rw [← HN.out, ht]; simp [markL]
      obtain ⟨x, rfl, hcell⟩ := HB.out.cell (by omega)
      have hc0 : Hid (∀ w', Below w.heap.size w w' → w'.cell? (x.add 0) = some (.int .u8 239)) := Lib.hid fun w' h => by
        have := (HB.out.kept h).cellAt 0 (by omega)
        rw [this, ht]; rfl
      clear hm ht hcell
      go_enter Tryz.func5, Tryz.ntmps5
      go_wp2_with (fail)
      refine (extAwake_any w HW.out).mono ?_
      rintro e w1 ⟨rfl, c1⟩
      have B1 := Lib.hid c1
      clear c1
      have hcv := HB.out.conv_kept B1.out
      rw [HS.out] at hcv
      go_wp2_with (fail)
      refine (right_any S _).mono ?_
      rintro e w2 ⟨rfl, c2⟩
      rw [HLS.out, HV.out]
      have B2 := Lib.hid (B1.out.trans (c2.mono B1.out.size))
      clear c2 hcv
      have hcv := HB.out.conv_kept B2.out
      rw [HS.out] at hcv
      go_wp2_with (fail)
      refine (begins_any S _ _).mono ?_
      rintro e w3 ⟨rfl, rfl⟩
      rw [HM2.out]
      go_wp2
      go_loopw [7] (fun v wr => v = .int .i64 0 ∧ w2 = wr) (fun v _ => 0)
      case atStart => exact ⟨rfl, rfl⟩
      case round =>
        obtain ⟨rfl, rfl⟩ := hrel
        have hc := hc0.out _ B2.out
        have hx0 : x.add 0 = x := by unfold Addr.add; rw [if_pos rfl]
        have hc2 := hc
        rw [hx0] at hc2
        go_wp2
        go_ret
        exact ⟨rfl, B2.out⟩
    | false =>
      have HM := Lib.hid hm
      have HM2 : Hid (Lib.hasPrefix S.data.toList (ByteArray.mk #[239, 187, 191]).data.toList = false) := Lib.hid (by rw [HLS.out]; exact hm)
      clear hm
      have hc0 : Hid (∀ i (hi : i < l.length), ∃ x : Addr, a0 = some x ∧ ∀ w', Below w.heap.size w w' → w'.cell? (x.add i) = some (.int .u8 (l[i].toNat : Int))) := Lib.hid fun i hi => by
        have hn := HN.out
        obtain ⟨x, hx, -⟩ := HB.out.cell (by omega)
        refine ⟨x, hx, fun w' h => ?_⟩
        have hk := HB.out.kept h
        rw [hx] at hk
        rw [hk.cellAt i (by omega), List.getD_eq_getElem?_getD, List.getElem?_eq_getElem hi]; rfl
      go_enter Tryz.func5, Tryz.ntmps5
      go_wp2_with (fail)
      refine (extAwake_any w HW.out).mono ?_
      rintro e w1 ⟨rfl, c1⟩
      have B1 := Lib.hid c1
      clear c1
      have hcv := HB.out.conv_kept B1.out
      rw [HS.out] at hcv
      go_wp2_with (fail)
      refine (right_any S _).mono ?_
      rintro e w2 ⟨rfl, c2⟩
      rw [HLS.out, HV.out]
      have B2 := Lib.hid (B1.out.trans (c2.mono B1.out.size))
      clear c2 hcv
      have hcv := HB.out.conv_kept B2.out
      rw [HS.out] at hcv
      go_wp2_with (fail)
      refine (begins_any S _ _).mono ?_
      rintro e w3 ⟨rfl, rfl⟩
      rw [HM2.out]
      clear hcv
      go_wp2
      go_loopw [5, 6, 7] (fun v5 v6 v7 wr => ∃ (i : Nat) (W : ByteArray) (B : Bool), v7 = .int .i64 (i : Int) ∧ v5 = .string W ∧ v6 = .bool B ∧ i ≤ len0 ∧ Below w.heap.size w wr ∧ Hid (plS (l.take i) = (W.data.toList, B)) ∧ Hid (NoMarks (l.take i))) (fun _ _ v _ => len0 - (intOf v).toNat)
      case atStart => exact ⟨0, ⟨#[]⟩, false, rfl, rfl, rfl, Nat.zero_le _, B2.out, Lib.hid rfl, Lib.hid fun c hc => by cases hc⟩
      case round =>
        obtain ⟨i, W, B, rfl, rfl, rfl, hi, hbw, HP, HNM⟩ := hrel
        have HBW := Lib.hid hbw
        clear hbw
        have hW : W.size ≤ 600 := by
          have h1 := plS_len (l.take i) ([], false)
          have h2 : (plS (l.take i)).1.length ≤ 0 + 2 * (l.take i).length := h1
          rw [HP.out] at h2
          have h3 : (l.take i).length ≤ 300 := by rw [List.length_take]; have := HN.out; omega
          rw [Lib.size_eq]
          simp only at h2
          omega
        by_cases hlt : i < len0
        · have hil : i < l.length := by rw [HN.out]; exact hlt
          obtain ⟨x, rfl, hcx⟩ := hc0.out i hil
          have hc := hcx _ HBW.out
          clear hcx
          have HT := Lib.hid (take_more l i hil)
          obtain ⟨c, hcc⟩ : ∃ c, l[i] = c := ⟨_, rfl⟩
          rw [hcc] at hc HT
          clear hcc
          by_cases c60 : c = 60
          · subst c60
            go_wp2
            go_ret
            exact ⟨rfl, HBW.out⟩
          by_cases c38 : c = 38
          · subst c38
            go_wp2
            go_ret
            exact ⟨rfl, HBW.out⟩
          by_cases c0 : c = 0
          · subst c0
            go_wp2
            go_ret
            exact ⟨rfl, HBW.out⟩
          have HNM2 : Hid (NoMarks (l.take (i + 1))) := Lib.hid (by
            rw [HT.out]
            intro d hd
            rcases List.mem_append.1 hd with hd | hd
            · exact HNM.out d hd
            · rw [List.mem_singleton.1 hd]; exact ⟨c60, c38, c0⟩)
          have HP2 : Hid (plS (l.take (i + 1)) = plF (W.data.toList, B) c) := Lib.hid (by rw [HT.out, plS_snoc, HP.out])
          by_cases hbl : blkB c = true
          · have HQ : Hid (plS (l.take (i + 1)) = (W.data.toList, decide (W.data.toList ≠ []))) := Lib.hid (by rw [HP2.out]; unfold plF; rw [if_pos hbl])
            have h5 := (blk_is c).1 hbl
            clear c60 c38 c0 hbl
            rcases some_text20 W with ⟨r0, r1, r2⟩ | ⟨r0, r1, r2⟩
            · have HQ2 : Hid (plS (l.take (i + 1)) = (W.data.toList, false)) := Lib.hid (by rw [HQ.out]; simp [r0])
              clear r0
              rcases h5 with rfl | rfl | rfl | rfl | rfl
              all_goals
                go_wp2
                go_roundw
                case rel => exact ⟨i + 1, W, false, by simp, rfl, rfl, by omega, HBW.out, HQ2, HNM2⟩
                case measure => simp [intOf]; omega
            · have HQ2 : Hid (plS (l.take (i + 1)) = (W.data.toList, true)) := Lib.hid (by rw [HQ.out]; simp [r0])
              clear r0
              rcases h5 with rfl | rfl | rfl | rfl | rfl
              all_goals
                go_wp2
                go_roundw
                case rel => exact ⟨i + 1, W, true, by simp, rfl, rfl, by omega, HBW.out, HQ2, HNM2⟩
                case measure => simp [intOf]; omega
          · have hn : ∀ d : UInt8, blkB d = true → c ≠ d := fun d h1 e => hbl (by rw [e]; exact h1)
            have e60 : (((c.toNat : Nat) : Int) == 60) = false := byte_ne c 60 c60
            have e38 : (((c.toNat : Nat) : Int) == 38) = false := byte_ne c 38 c38
            have e0 : (((c.toNat : Nat) : Int) == 0) = false := byte_ne c 0 c0
            have e9 : (((c.toNat : Nat) : Int) == 9) = false := byte_ne c 9 (hn 9 (by decide))
            have e10 : (((c.toNat : Nat) : Int) == 10) = false := byte_ne c 10 (hn 10 (by decide))
            have e12 : (((c.toNat : Nat) : Int) == 12) = false := byte_ne c 12 (hn 12 (by decide))
            have e13 : (((c.toNat : Nat) : Int) == 13) = false := byte_ne c 13 (hn 13 (by decide))
            have e32 : (((c.toNat : Nat) : Int) == 32) = false := byte_ne c 32 (hn 32 (by decide))
            have HQ : Hid (plS (l.take (i + 1)) = (W.data.toList ++ (if B = true then [32] else []) ++ [c], false)) := Lib.hid (by rw [HP2.out]; unfold plF; rw [if_neg hbl])
            clear c60 c38 c0 hbl hn
            have k1 : (ByteArray.mk #[c]).size = 1 := rfl
            have k2 : (ByteArray.mk #[32]).size = 1 := rfl
            cases B
            · have g1 : ¬ 9223372036854775807 < W.size + (ByteArray.mk #[c]).size := by rw [k1]; omega
              have HQ2 : Hid (plS (l.take (i + 1)) = ((W ++ ⟨#[c]⟩ : ByteArray).data.toList, false)) := Lib.hid (by rw [HQ.out]; simp [ByteArray.data_append])
              go_wp2
              rw [oneByte _ _ _ rfl]
              simp only [Result.andThen]
              rw [Oper.upon_value]
              go_wp2
              go_roundw
              case rel => exact ⟨i + 1, _, false, by simp, rfl, rfl, by omega, HBW.out.alloc HBW.out.size _, HQ2, HNM2⟩
              case measure => simp [intOf]; omega
            · have g0 : ¬ 9223372036854775807 < W.size + 1 := by omega
              have g1 : ¬ 9223372036854775807 < (W ++ ⟨#[32]⟩ : ByteArray).size + (ByteArray.mk #[c]).size := by rw [ByteArray.size_append, k1, k2]; omega
              have g2 : ¬ 9223372036854775807 < W.size + 1 + (ByteArray.mk #[c]).size := by rw [k1]; omega
              have HQ2 : Hid (plS (l.take (i + 1)) = ((W ++ ⟨#[32]⟩ ++ ⟨#[c]⟩ : ByteArray).data.toList, false)) := Lib.hid (by rw [HQ.out]; simp [ByteArray.data_append])
              go_wp2
              rw [oneByte _ _ _ rfl]
              simp only [Result.andThen]
              rw [Oper.upon_value]
              go_wp2
              go_roundw
              case rel => exact ⟨i + 1, _, false, by simp, rfl, rfl, by omega, HBW.out.alloc HBW.out.size _, HQ2, HNM2⟩
              case measure => simp [intOf]; omega
        · have hall : l.take i = l := List.take_of_length_le (by rw [HN.out]; omega)
          have HE : Hid ((⟨(extL l).toArray⟩ : ByteArray) = W) := Lib.hid (plain_told l HV.out HM.out (by have := HNM.out; rwa [hall] at this) W B (by have := HP.out; rwa [hall] at this))
          clear hall
          go_wp2_with (fail)
          refine (ext_any _ l _ (HB.out.kept HBW.out) HX.out (HW.out.below HBW.out)).mono ?_
          rintro e w4 ⟨rfl, c4⟩
          rw [HE.out]
          have B4 := Lib.hid (HBW.out.trans (c4.mono HBW.out.size))
          clear c4
          go_wp2
          go_ret
          exact ⟨ret_bool (by simp), B4.out⟩

theorem laid_met (os : Os) : laidMet Tryz.prog Rows.extractPlainRow.laid ((laidWorld os).forCall (fun _ _ => 0) ⟨#[], #[.slice none 0 0], []⟩).memory :=
  laidMet_of_run' 8 (by kernel_rfl) (by kernel_rfl)
theorem reads (os : Os) {H : Type} (enc : TypeId × Value → H) : ∃ places, DataW.whole enc Tryz.prog ((laidWorld os).forCall (fun _ _ => 0) ⟨#[], #[.slice none 0 0], []⟩).memory Tryz.f5.params.toList Rows.extractPlainSpec.vars false (#[.slice none 0 0] : Array Value).toList 8 = some ([.nil], [], places) :=
  ⟨[], by kernel_rfl⟩
set_option maxRecDepth 100000 in
theorem lifted (os : Os) (started : os.Started) (H : Type) (enc : TypeId × Value → H) (F : Stop.Interp) :
    ReturnsInHanded {} Tryz.checked os 5 .any ((OpenSpec.ofChange Rows.extractPlainSpec).preRow enc Tryz.prog Tryz.f5 Rows.extractPlainRow.domain false Rows.extractPlainRow.laid) (((OpenSpec.ofChange Rows.extractPlainSpec).at F).post enc Tryz.prog Tryz.f5 false true false false) := by
  obtain ⟨places, hx⟩ := reads os enc
  refine returnsInHanded_of_row (C := Tryz.checked) (s := OpenSpec.ofChange Rows.extractPlainSpec) own started (by kernel_rfl) Tryz.func5
    (witness_row_at (enc := enc) (C := Tryz.checked) false (laidWorld os) #[.slice none 0 0] rfl (by kernel_rfl) (by kernel_rfl) (by kernel_rfl)
      (OpenSpec.preRow_of_cond 8 hx (by kernel_rfl) (fun k hk => by cases hk) (by kernel_rfl) (laid_met os))) ?_
  intro W base args ds gs before hval0 hW _ _ _ hL hsh _
  have hval : ∀ (j : Nat) t v, Tryz.f5.params[j]? = some t → args[j]? = some v → Value.okWide Tryz.prog W .any base t v := hval0
  have hW' := hW
  obtain ⟨p, q, hA0, hV, rfl, hfz, hnd⟩ := hW
  have hA : DataW.TrodAll enc Tryz.prog W 0 (fun _ => true) true Tryz.f5.params.toList args.toList ds p := hA0
  rw [Tryz.params5] at hA hval
  obtain ⟨v0, vs0, d0, ds0, p0, q0, hargs, rfl, rfl, h0, r0⟩ := trodAll_cons hA
  obtain ⟨rfl, rfl, rfl⟩ := trodAll_nil r0
  obtain rfl : args = #[v0] := by cases args; simp_all
  obtain ⟨rfl, rfl⟩ := trodVars_none hV
  obtain ⟨a0, len0, cap0, rfl⟩ := okWide_slice Tryz.underlying22 (hval 0 22 v0 rfl rfl)
  have k0 := h0
  have lt0 : ∀ x ∈ p0, x.block < W.heap.size := by obtain ⟨m, hm⟩ := k0; exact DataW.trod_lt m _ _ _ hm
  obtain ⟨z0, w0⟩ : ∃ zs, IsRow .u8 W a0 len0 cap0 zs := by
    obtain ⟨fuel, hf⟩ := h0
    rcases open_ints Tryz.underlying22 Tryz.underlying5 (by kernel_rfl) hf with ⟨hcs, _⟩ | ⟨x, l, c, zs, hcs, _, hl, hm, hz, _, hcell, hwz⟩
    · simp [Value.cells] at hcs
      obtain ⟨rfl, rfl, rfl⟩ := hcs
      exact ⟨[], .inl ⟨rfl, rfl, rfl, rfl⟩⟩
    · simp [Value.cells] at hcs
      obtain ⟨rfl, rfl, rfl⟩ := hcs
      exact ⟨zs, .inr ⟨_, rfl, hl, hm, by simpa using hz, hcell, hwz⟩⟩
  clear hA0 hval0
  refine (walk a0 len0 cap0 z0 W (tabAt_of hL hsh) w0).mono fun e W' ⟨he, bel⟩ => ?_
  subst he
  exact ⟨_, rfl, _, _, _, [], _, [], hW', trodAll_mk1 (shut_bool Tryz.underlying4 _), (trodAll_cons_mk (Below.trod laidOut (by kernel_rfl) (of_decide_eq_true (by kernel_rfl)) k0 bel lt0) trodAll_mk0), rfl, bel.frame _, fun h => by cases h⟩

theorem said : Rows.ExtractPlainSaid :=
  OpenClaim.holds_of_cond 5 Tryz.f5 rfl rfl rfl rfl rfl rfl rfl ⟨rfl, rfl, rfl, rfl, rfl⟩ rfl rfl rfl rfl rfl (by kernel_rfl) Tryz.func5 (by kernel_rfl)
    (of_decide_eq_true (by kernel_rfl)) (by unfold Func.isWrapper; first | (rw [if_pos (by decide +kernel)]; kernel_rfl) | (rw [if_neg (by decide +kernel)]; exact ⟨rfl, rfl⟩))
    (fun os started H enc _ F => by rw [OpenClaim.pre_eq_preRow]; exact lifted os started H enc F)
theorem plain (f : FuncId) (fn : Func) (hf : Tryz.pinned.checked.prog.funcNamed "flail/flaillaw20.ExtractPlain" = some f) (hfn : Tryz.pinned.checked.prog.funcs[f]? = some fn) :
    true = Tryz.pinned.checked.prog.looks [] ∧ ∀ (j : Nat) t, fn.params[j]? = some t → Tryz.pinned.checked.prog.wantsStandIn t = false := by
  obtain rfl : f = 5 := Option.some.inj ((show Tryz.prog.funcNamed "flail/flaillaw20.ExtractPlain" = some 5 by kernel_rfl).symm.trans hf) |>.symm
  obtain rfl : fn = Tryz.f5 := (Option.some.inj (Tryz.func5.symm.trans hfn)).symm
  refine ⟨by kernel_rfl, fun j t ht => ?_⟩
  rw [Tryz.params5] at ht
  have hm : t ∈ [22] := by first | simpa using Array.mem_of_getElem? ht | (have h := Array.mem_of_getElem? ht; simp at h ⊢; grind)
  have hall : ([22].all fun u => !Tryz.prog.wantsStandIn u) = true := by kernel_rfl
  exact (show Tryz.prog.wantsStandIn t = false by simpa using List.all_eq_true.1 hall t hm)
/-- the statement: the row's card -/
theorem proved : Rows.ExtractPlainCardSaid :=
  Claim7.holds_tied_plain_at .later [] _ _ _ _ said (fun _ h => by cases h) (by kernel_rfl) (fun _ h => by cases h) extractPlain_row_tie rfl ⟨rfl, rfl⟩ (by kernel_rfl) rfl plain (by kernel_rfl)
end Go.Proofs.YtpmdcppnlggckaaGreatDoor.extractPlain
