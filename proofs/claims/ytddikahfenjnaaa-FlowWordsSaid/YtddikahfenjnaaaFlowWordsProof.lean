/-
  The law FlowWords of flail/flaillaw18 answers true for every input, and changes nothing that was there. No condition.
-/
import Derived.Test.YtddikahfenjnaaaRows
import Derived.Test.YtddikahfenjnaaaFloLaw
import Derived.Test.YtddikahfenjnaaaFloFew
import Derived.WalkKit
import Derived.ProofKit
import Derived.OpenShut
import Derived.ShutString
import Derived.ChangeOld
import Derived.Below
namespace Go.Proofs.Ytddikahfenjnaaa.flowWords
open Go.ChangeShapes Go.WideShapes Go.ChangeAt Go.RowKit
open Go.ChangeMaps (open_string shut_string)
set_option linter.unusedVariables false

theorem own : ownKnob Try.prog.godebug = none := by kernel_rfl
theorem laidOut : laidOutB Try.prog = true := by kernel_rfl

theorem said_step (l : List ActP) (i : Nat) (h : i < l.length) : saidL (l.take (i + 1)) = saidL (l.take i) ++ (if l[i].kind = 0 then wordsL l[i].s else []) := by
  rw [List.take_succ_eq_append_getElem h]
  unfold saidL
  rw [List.flatMap_append, List.flatMap_singleton]
theorem words_len (s : Txt) : (wordsL s).length ≤ s.length := List.length_filter_le _ _
theorem said_len : ∀ (l : List ActP), (∀ a ∈ l, a.s.length ≤ 100) → (saidL l).length ≤ 100 * l.length
  | [], _ => Nat.le_refl _
  | a :: l, h => by
    have h1 := said_len l (fun b hb => h b (.tail _ hb))
    have h2 := words_len a.s
    have h3 := h a (.head _)
    have e : saidL (a :: l) = (if a.kind = 0 then wordsL a.s else []) ++ saidL l := rfl
    rw [e, List.length_append, List.length_cons]
    split
    · omega
    · simp only [List.length_nil]; omega
theorem words_step (s : ByteArray) (i : Nat) (h : i < s.size) : wordsL (s.data.toList.take (i + 1)) = wordsL (s.data.toList.take i) ++ (if wordB s[i] = true then [s[i]] else []) := by
  have h' : i < s.data.toList.length := by rw [← Lib.size_eq]; exact h
  rw [List.take_succ_eq_append_getElem h', words_app]
  congr 1
  show [s[i]].filter wordB = _
  rw [List.filter_cons, List.filter_nil]
theorem words_take (s : Txt) (i : Nat) : (wordsL (s.take i)).length ≤ s.length := by
  have h1 := words_len (s.take i)
  rw [List.length_take] at h1
  omega
set_option maxRecDepth 100000 in
set_option maxHeartbeats 4000000 in
theorem walk (a0 : Option Addr) (len0 cap0 : Nat) (l0 : List ActP) (w : World) (w0 : IsActs w a0 len0 cap0 l0) :
    Calls Try.prog 5 #[.slice a0 len0 cap0] w fun e w' => e = .returned (.bool true) ∧ Below w.heap.size w w' := by
  have HL := Lib.hid w0
  have hll := w0.1
  have hm := w0.2.2.1
  have hlc := w0.2.1
  unfold maxLen at hm
  clear w0
  go_enter Try.func5, Try.ntmps5
  go_wp2_with (fail)
  refine (floAwake_any w).mono ?_
  rintro e w1 ⟨rfl, c1⟩
  have B1 := Lib.hid c1
  clear c1
  go_wp2_with (fail)
  refine (refFew18_any a0 len0 cap0 l0 w1 (HL.out.below B1.out (Nat.le_refl _))).mono ?_
  rintro e w2 ⟨⟨few, rfl, hfew⟩, c2⟩
  have B2 := Lib.hid (B1.out.trans (c2.mono B1.out.size))
  have HF := Lib.hid hfew
  clear c2 hfew
  cases few
  · go_wp2
    go_ret
    exact ⟨rfl, B2.out⟩
  obtain ⟨h60, h100⟩ := HF.out rfl
  have H100 := Lib.hid h100
  clear h100 HF
  go_wp2_with (fail)
  refine (newM_any w w2 Emp Lies.emp (Made.none B2.out)).mono ?_
  rintro e w3 ⟨g, rfl, m3⟩
  have M3 := Lib.hid m3
  clear m3
  go_wp2
  go_loopw [6, 7] (fun v6 v7 wr => ∃ (i : Nat) (A : ByteArray), v7 = .int .i64 (i : Int) ∧ v6 = .string A ∧ i ≤ len0 ∧ Hid (A.data.toList = saidL (l0.take i)) ∧ Hid (Flo w wr g (actsF flo0 (l0.take i)) Emp)) (fun _ v _ => len0 - (intOf v).toNat)
  case atStart => exact ⟨0, ⟨#[]⟩, rfl, rfl, Nat.zero_le _, Lib.hid (by rw [List.take_zero]; rfl), Lib.hid (by rw [List.take_zero]; exact M3.out)⟩
  case round =>
    obtain ⟨i, A, rfl, rfl, hi, HA, HM⟩ := hrel
    by_cases hlt : i < len0
    · have hiL : i < l0.length := by omega
      obtain ⟨x, rfl, xc, xo⟩ := HL.out.2.2.2 i hiL
      obtain ⟨x0, x1, x2, x3⟩ := (xc.below HM.out.bel (Nat.le_refl _)).asked
      have HC := Lib.hid (doesM_any w wr g (actsF flo0 (l0.take i)) Emp Lies.emp HM.out l0[i] (by
        have := acts_few l0 i (by omega) H100.out
        have := H100.out l0[i] (List.getElem_mem hiL)
        omega) xo)
      rw [acts_step flo0 l0 i hiL] at HC
      unfold aggA at HC
      have hAl : A.size ≤ 6000 := by
        have := said_len (l0.take i) (fun a ha => H100.out a (List.mem_of_mem_take ha))
        rw [List.length_take] at this
        rw [Lib.size_eq, HA.out]; omega
      have hSS := said_step l0 i hiL
      have hS1 := H100.out l0[i] (List.getElem_mem hiL)
      have HXC := Lib.hid xc
      obtain ⟨K, hK⟩ : ∃ K, l0[i].kind = K := ⟨_, rfl⟩
      obtain ⟨S, hS⟩ : ∃ S : ByteArray, (⟨l0[i].s.toArray⟩ : ByteArray) = S := ⟨_, rfl⟩
      have hS2 : l0[i].s = S.data.toList := by rw [← hS, List.toList_toArray]
      obtain ⟨kp, hkp⟩ : ∃ K, l0[i].keep = K := ⟨_, rfl⟩
      obtain ⟨n, hn⟩ : ∃ K, l0[i].n = K := ⟨_, rfl⟩
      rw [hK, hS, hkp, hn] at HC
      rw [hK] at x0
      rw [hS] at x1
      rw [hkp] at x2
      rw [hn] at x3
      rw [hK, hS2] at hSS
      rw [hS2, ← Lib.size_eq] at hS1
      have HX0 := Lib.hid (show ∀ u : World, Below w.heap.size w u → u.cell? (x.add (i * 4)) = some (.int .i64 K) ∧ u.cell? ⟨(x.add (i * 4)).block, (x.add (i * 4)).off + 1, none⟩ = some (.string S) from fun u hu => by
        obtain ⟨y0, y1, -, -⟩ := (HXC.out.below hu (Nat.le_refl _)).asked
        rw [hK] at y0
        rw [hS] at y1
        exact ⟨y0, y1⟩)
      have HSS := Lib.hid hSS
      clear hK hS hS2 hkp hn xc xo hSS HXC
      by_cases hk0 : K = 0
      · have HS2 : Hid (saidL (l0.take (i + 1)) = A.data.toList ++ wordsL S.data.toList) := Lib.hid (by rw [HSS.out, if_pos hk0, HA.out])
        subst hk0
        clear HSS
        go_wp2_with (go_at_call 12; refine HC.out.mono ?_; rintro e w5 ⟨rfl, m5⟩; obtain ⟨y0, y1⟩ := HX0.out _ m5.bel; have M5 := Lib.hid m5; clear m5)
        clear x0 x1 x2 x3 y0 y1
        go_loopw [6, 8] (fun v6 v8 w6 => ∃ (k : Nat) (D : ByteArray), v8 = .int .i64 (k : Int) ∧ v6 = .string D ∧ k ≤ S.size ∧ Hid (D.data.toList = A.data.toList ++ wordsL (S.data.toList.take k)) ∧ Hid (Flo w w6 g (actsF flo0 (l0.take (i + 1))) Emp)) (fun _ v _ => S.size - (intOf v).toNat)
        case atStart => exact ⟨0, A, rfl, rfl, Nat.zero_le _, Lib.hid (by rw [List.take_zero]; show _ = _ ++ []; rw [List.append_nil]), M5⟩
        case round =>
          obtain ⟨k, D, rfl, rfl, hk, HD, HM6⟩ := hrel
          obtain ⟨y0, y1⟩ := HX0.out _ HM6.out.bel
          by_cases hkt : k < S.size
          · have hws := words_step S k hkt
            have hDl : D.size ≤ 7000 := by
              have := words_take S.data.toList k
              rw [← Lib.size_eq] at this
              rw [Lib.size_eq, HD.out, List.length_append, ← Lib.size_eq]
              omega
            obtain ⟨c, hc⟩ : ∃ c, S[k] = c := ⟨_, rfl⟩
            obtain ⟨q, hq⟩ : ∃ q : Int, ((c.toNat : Nat) : Int) = q := ⟨_, rfl⟩
            have HC2 := fun w => Lib.hid (blank18_any c q w hq)
            have HQ := Lib.hid hq
            have hsq : ((S[k].toNat : Nat) : Int) = q := by rw [hc]; exact hq
            have hq0 : 0 ≤ q ∧ q ≤ 255 := by have := c.toNat_lt; omega
            rw [hc] at hws
            have h0q : (q == 0) = (c == 0) := by rw [← hq]; exact u8_test c 0 (by decide)
            by_cases h0 : c = 0
            · have e0 : (q == 0) = true := by rw [h0q, h0]; rfl
              have e1 : (q != 0) = false := by rw [bne, e0]; rfl
              have HD2 := Lib.hid (show D.data.toList = A.data.toList ++ wordsL (S.data.toList.take (k + 1)) by
                rw [hws, HD.out, h0, show wordB 0 = false from rfl, if_neg Bool.false_ne_true, List.append_nil])
              clear hws h0q h0 hc hq
              go_wp2
              go_roundw
              case rel => exact ⟨k + 1, D, by go_num, rfl, by omega, HD2, HM6⟩
              case measure => simp [intOf]; omega
            · have e0 : (q == 0) = false := by rw [h0q]; exact beq_eq_false_iff_ne.2 h0
              have e1 : (q != 0) = true := by rw [bne, e0]; rfl
              cases hb : blkB c
              · rw [hb] at HC2
                have hw : wordB c = true := by unfold wordB; rw [hb, beq_eq_false_iff_ne.2 h0]; rfl
                obtain ⟨d, hd, hds⟩ : ∃ d : ByteArray, d = ⟨#[c]⟩ ∧ d.size = 1 := ⟨_, rfl, rfl⟩
                have HD2 := Lib.hid (show (D ++ d).data.toList = A.data.toList ++ wordsL (S.data.toList.take (k + 1)) by
                  rw [hws, hw, if_pos rfl, ByteArray.data_append, Array.toList_append, HD.out, hd]; simp)
                have HDD := Lib.hid hd
                have g1 : ¬ 9223372036854775807 < D.size + d.size := by omega
                clear hws h0q h0 hc hq hb hw hd
                go_wp2_with (go_at_call 15; refine (HC2 _).out.mono ?_; rintro e w7 ⟨rfl, rfl⟩)
                rw [one_plainF _ _ _ HQ.out]
                simp only [Result.andThen]
                rw [Oper.upon_value]
                rw [← HDD.out]
                go_wp2
                go_roundw
                case rel => exact ⟨k + 1, D ++ d, by go_num, rfl, by omega, HD2, Lib.hid (flo_more Lies.emp HM6.out _)⟩
                case measure => simp [intOf]; omega
              · rw [hb] at HC2
                have HD2 := Lib.hid (show D.data.toList = A.data.toList ++ wordsL (S.data.toList.take (k + 1)) by
                  rw [hws, HD.out, show wordB c = false by unfold wordB; rw [hb]; simp, if_neg Bool.false_ne_true, List.append_nil])
                clear hws h0q h0 hc hq hb
                go_wp2_with (go_at_call 15; refine (HC2 _).out.mono ?_; rintro e w7 ⟨rfl, rfl⟩)
                go_roundw
                case rel => exact ⟨k + 1, D, by go_num, rfl, by omega, HD2, HM6⟩
                case measure => simp [intOf]; omega
          · obtain rfl : k = S.size := by omega
            have HD2 := Lib.hid (show D.data.toList = saidL (l0.take (i + 1)) by
              rw [HD.out, HS2.out, List.take_of_length_le (by rw [← Lib.size_eq]; omega)])
            go_wp2
            go_roundw
            case rel => exact ⟨i + 1, D, by go_num, rfl, by omega, HD2, HM6⟩
            case measure => simp [intOf]; omega
      · have bk : (K == 0) = false := beq_eq_false_iff_ne.2 hk0
        have bk2 : (K != 0) = true := by rw [bne, bk]; rfl
        have HS2 := Lib.hid (show A.data.toList = saidL (l0.take (i + 1)) by rw [HSS.out, if_neg hk0, List.append_nil, HA.out])
        clear HSS hk0
        go_wp2_with (go_at_call 12; refine HC.out.mono ?_; rintro e w5 ⟨rfl, m5⟩; obtain ⟨y0, y1⟩ := HX0.out _ m5.bel; have M5 := Lib.hid m5; clear m5)
        go_roundw
        case rel => exact ⟨i + 1, A, by go_num, rfl, by omega, HS2, M5⟩
        case measure => simp [intOf]; omega
    · obtain rfl : i = len0 := by omega
      have e1 : l0.take i = l0 := List.take_of_length_le (by omega)
      have hsz := acts_few l0 i (by omega) H100.out
      have HE := edged_acts l0
      have hwa := words_acts l0 flo0 edged_flo0
      rw [e1] at HM hsz HA
      obtain ⟨F, hF⟩ : ∃ F, actsF flo0 l0 = F := ⟨_, rfl⟩
      rw [hF] at HM hsz HE hwa
      have htl : F.told.length ≤ 12000 := by
        unfold FloP.size at hsz; omega
      have HC := Lib.hid (textM_any w wr g F Emp Lies.emp HM.out (by omega))
      obtain ⟨T, hT⟩ : ∃ T : ByteArray, (⟨F.told.toArray⟩ : ByteArray) = T := ⟨_, rfl⟩
      have hT2 : F.told = T.data.toList := by rw [← hT, List.toList_toArray]
      rw [hT] at HC
      have hts : T.size ≤ 12000 := by rw [Lib.size_eq, ← hT2]; exact htl
      have HE1 := Lib.hid (show ∀ (k : Nat) (h : k < T.size), T[k] ≠ 0 from fun k h => (HE.told T[k] (by rw [hT2]; exact List.getElem_mem (by rw [← Lib.size_eq]; exact h))).1)
      have HWA := Lib.hid (show A.data.toList = wordsL T.data.toList by rw [HA.out, ← hT2, hwa]; rfl)
      clear hT hT2 htl hsz hF e1 HE H100 HL hwa
      go_wp2_with (go_at_call 14; refine HC.out.mono ?_; rintro e w6 ⟨rfl, m6⟩; have M6 := Lib.hid m6; clear m6)
      go_loopw [11, 12] (fun v11 v12 w7 => ∃ (j : Nat) (G : ByteArray), v12 = .int .i64 (j : Int) ∧ v11 = .string G ∧ j ≤ T.size ∧ w6 = w7 ∧ Hid (G.data.toList = wordsL (T.data.toList.take j))) (fun _ v _ => T.size - (intOf v).toNat)
      case atStart => exact ⟨0, ⟨#[]⟩, rfl, rfl, Nat.zero_le _, rfl, Lib.hid (by rw [List.take_zero]; rfl)⟩
      case round =>
        obtain ⟨j, G, rfl, rfl, hj, rfl, HG⟩ := hrel
        by_cases hjt : j < T.size
        · have z0 := HE1.out j hjt
          have hws := words_step T j hjt
          have hGl : G.size ≤ 12000 := by
            have := words_take T.data.toList j
            rw [← Lib.size_eq] at this
            rw [Lib.size_eq, HG.out]
            omega
          have HC2 := fun w => Lib.hid (blank18_any T[j] _ w rfl)
          have hwb : wordB T[j] = !blkB T[j] := by unfold wordB; rw [beq_eq_false_iff_ne.2 z0]; rfl
          rw [hwb] at hws
          cases hb : blkB T[j]
          · rw [hb] at HC2 hws
            have HG2 := Lib.hid (show (G ++ T.extract j (j + 1)).data.toList = wordsL (T.data.toList.take (j + 1)) by
              rw [hws, ByteArray.data_append, Array.toList_append, HG.out, extract_one T j hjt]; rfl)
            have g1 : ¬ 9223372036854775807 < G.size + (T.extract j (j + 1)).size := by rw [ByteArray.size_extract]; omega
            clear hws hwb z0 hb
            go_wp2_with (go_at_call 15; refine (HC2 _).out.mono ?_; rintro e w8 ⟨rfl, rfl⟩)
            go_roundw
            case rel => exact ⟨j + 1, G ++ T.extract j (j + 1), by go_num, by first | rfl | simp, by omega, trivial, HG2⟩
            case measure => simp [intOf]; omega
          · rw [hb] at HC2 hws
            have HG2 := Lib.hid (show G.data.toList = wordsL (T.data.toList.take (j + 1)) by
              rw [hws, HG.out]; simp)
            clear hws hwb z0 hb
            go_wp2_with (go_at_call 15; refine (HC2 _).out.mono ?_; rintro e w8 ⟨rfl, rfl⟩)
            go_roundw
            case rel => exact ⟨j + 1, G, by go_num, rfl, by omega, trivial, HG2⟩
            case measure => simp [intOf]; omega
        · obtain rfl : j = T.size := by omega
          have e2 : G = A := str_ext (by rw [HG.out, HWA.out, List.take_of_length_le (by rw [← Lib.size_eq]; omega)])
          subst e2
          go_wp2
          go_ret
          exact ⟨ret_bool (by simp), M6.out.bel⟩

set_option maxRecDepth 100000 in
theorem lifted (os : Os) (started : os.Started) (H : Type) (enc : TypeId × Value → H) :
    ReturnsInHanded {} Try.checked os 5 .any (Rows.flowWordsSpec.pre6 enc Try.prog Try.f5 Rows.flowWordsRow.domain false) (Rows.flowWordsSpec.post enc Try.prog Try.f5 false true false false) := by
  refine returnsInHanded_of_change (C := Try.checked) own started (by kernel_rfl) Try.func5
    (ChangeSpec.witness6 (enc := enc) (C := Try.checked) false ⟨#[], #[.slice none 0 0], []⟩ 8 (by kernel_rfl) (by kernel_rfl) (by kernel_rfl) (by kernel_rfl)) ?_
  intro W base args ds gs before hval0 hW hcnd _
  have hval : ∀ (j : Nat) t v, Try.f5.params[j]? = some t → args[j]? = some v → Value.okWide Try.prog W .any base t v := hval0
  have hW' := hW
  obtain ⟨p, q, hA0, hV, rfl, hfz, hnd⟩ := hW
  have hA : DataW.TrodAll enc Try.prog W 0 (fun _ => true) true Try.f5.params.toList args.toList ds p := hA0
  rw [Try.params5] at hA hval
  obtain ⟨v0, vs0, d0, ds0, p0, q0, hargs, rfl, rfl, h0, r0⟩ := trodAll_cons hA
  obtain ⟨rfl, rfl, rfl⟩ := trodAll_nil r0
  obtain rfl : args = #[v0] := by cases args; simp_all
  obtain ⟨rfl, rfl⟩ := trodVars_none hV
  obtain ⟨a0, len0, cap0, rfl⟩ := okWide_slice Try.underlying22 (hval 0 22 v0 rfl rfl)
  have k0 := h0
  have lt0 : ∀ x ∈ p0, x.block < W.heap.size := by obtain ⟨m, hm⟩ := k0; exact DataW.trod_lt m _ _ _ hm
  obtain ⟨l0, w0⟩ : ∃ l, IsActs W a0 len0 cap0 l := by
    obtain ⟨fuel, hf⟩ := h0
    exact isActs_arg (by simp [Value.cells]) hf
  clear hA0 hval0
  refine (walk a0 len0 cap0 l0 W w0).mono fun e W' ⟨he, bel⟩ => ?_
  subst he
  exact ⟨_, rfl, _, _, _, [], _, [], hW', trodAll_mk1 (shut_bool Try.underlying4 _), (trodAll_cons_mk (Below.trod laidOut (by kernel_rfl) (of_decide_eq_true (by kernel_rfl)) k0 bel lt0) trodAll_mk0), rfl, bel.frame _, fun h => by cases h⟩

theorem over : Rows.flowWordsRow.holds Try.pinned (OpenSpec.ofChange Rows.flowWordsSpec) :=
  OpenClaim.holds_of_wide 5 Try.f5 rfl rfl rfl rfl rfl rfl rfl ⟨rfl, rfl, rfl, rfl, rfl⟩ rfl rfl rfl rfl rfl (by kernel_rfl) Try.func5 (by kernel_rfl)
    (of_decide_eq_true (by kernel_rfl)) (by unfold Func.isWrapper; first | (rw [if_pos (by decide +kernel)]; kernel_rfl) | (rw [if_neg (by decide +kernel)]; exact ⟨rfl, rfl⟩))
    (fun os started H enc _ => lifted os started H enc)

/-- the statement -/
theorem proved : Rows.FlowWordsSaid := over
end Go.Proofs.Ytddikahfenjnaaa.flowWords
