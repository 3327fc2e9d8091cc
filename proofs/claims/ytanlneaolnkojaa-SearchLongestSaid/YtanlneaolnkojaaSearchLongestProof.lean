/-
  The law SearchLongest of flail/flaillaw05 answers true for every input, and changes nothing that was there. No condition.
-/
import Derived.Test.YtanlneaolnkojaaRows
import Derived.Test.YtanlneaolnkojaaRowLaws
import Derived.WalkKit
import Derived.ProofKit
import Derived.OpenShut
import Derived.ShutString
import Derived.ChangeOld
import Derived.Below
import Derived.Deep.SlicePairs
namespace Go.Proofs.Ytanlneaolnkojaa.searchLongest
open Go.ChangeShapes Go.WideShapes Go.ChangeAt Go.RowKit
open Go.ChangeMaps (open_string shut_string)
set_option linter.unusedVariables false

theorem own : ownKnob Try.prog.godebug = none := by kernel_rfl
theorem laidOut : laidOutB Try.prog = true := by kernel_rfl

theorem best_mono (rs : List Ln) {s s' : Txt} (h : s <+: s') : bestL rs s ≤ bestL rs s' := by
  rcases best_mem rs s with e | ⟨r, hr, hp, e⟩
  · omega
  · rw [e]; exact best_ge rs s' r hr (hp.trans h)
theorem win_less (s : Txt) (k m m' : Int) (h : m ≤ m') : winL s k m <+: winL s k m' := by
  unfold winL
  by_cases h1 : k < 0 ∨ m < 1
  · rw [if_pos h1]; exact List.nil_prefix
  · rw [if_neg h1, if_neg (by omega)]
    exact List.take_prefix_take_left (by omega)
theorem win_at (s : Txt) (k m : Nat) (top : Int) (h1 : 1 ≤ m) (h2 : (m : Int) ≤ top) : (s.drop k).take m = (winL s k top).take m := by
  unfold winL
  rw [if_neg (by omega), List.take_take, show ((k : Nat) : Int).toNat = k by omega, show min m top.toNat = m by omega]
theorem key_is {R : List Ln} (hv : Valid R) (s : Txt) (k m : Nat) (top : Int) (h1 : 1 ≤ m) (h2 : (m : Int) ≤ top) (hn : bestL R (winL s k top) = m) : (lookL R ((s.drop k).take m)).isSome = true := by
  rcases best_mem R (winL s k top) with e | ⟨r, hr, hp, e⟩
  · omega
  · have e2 : (s.drop k).take m = r.1 := by
      rw [win_at s k m top h1 h2, ← hn, e]
      exact (List.prefix_iff_eq_take.1 hp).symm
    obtain ⟨i, hi, rfl⟩ := List.getElem_of_mem hr
    rw [e2, lookL_at hv i hi]; rfl
theorem key_no (R : List Ln) (s : Txt) (k m : Nat) (top : Int) (h1 : 1 ≤ m) (h2 : (m : Int) ≤ top) (h3 : k + m ≤ s.length) (hn : bestL R (winL s k top) < m) : (lookL R ((s.drop k).take m)).isSome = false := by
  rw [lookL_none R _ fun r hr e => ?_]
  · rfl
  · have hp : r.1 <+: winL s k top := by rw [e, win_at s k m top h1 h2]; exact List.take_prefix _ _
    have h4 := best_ge R _ r hr hp
    rw [e, List.length_take, List.length_drop] at h4
    omega
theorem win_len (s : Txt) (k : Nat) (top : Int) (h : 0 ≤ top) : ((winL s k top).length : Int) ≤ top ∧ (winL s k top).length ≤ s.length - k := by
  unfold winL
  split
  · simp; omega
  · rw [List.length_take, List.length_drop]; omega

set_option maxRecDepth 100000 in
set_option maxHeartbeats 4000000 in
theorem walk (a0 : Option Addr) (len0 cap0 : Nat) (l0 : List Ln) (a1 : ByteArray) (a2 : Int) (a3 : Int) (w : World) (w0 : IsRows w a0 len0 cap0 l0) (w1 : a1.size ≤ maxLen) (w2 : (Lit.int .u16 a2).wf = true) (w3 : (Lit.int .u8 a3).wf = true) :
    Calls Try.prog 5 #[.slice a0 len0 cap0, .string a1, .int .u16 a2, .int .u8 a3] w fun e w' => e = .returned (.bool true) ∧ Below w.heap.size w w' := by
  have b2 : 0 ≤ a2 ∧ a2 ≤ 65535 := by simpa [Lit.wf, IntKind.min, IntKind.max, IntKind.signed, IntKind.bits] using w2
  have b3 : 0 ≤ a3 ∧ a3 ≤ 255 := by simpa [Lit.wf, IntKind.min, IntKind.max, IntKind.signed, IntKind.bits] using w3
  have W0 := Lib.hid w0
  clear w0 w1 w2 w3
  by_cases h0 : 100 < len0
  · have d0 : decide ((100 : Int) < (len0 : Int)) = true := decide_eq_true (by omega)
    go_enter Try.func5, Try.ntmps5
    go_wp2_with (fail)
    refine (awake_any _).mono ?_
    rintro e w1 ⟨rfl, hb1⟩
    go_wp2
    go_ret
    exact ⟨rfl, hb1⟩
  have d0 : decide ((100 : Int) < (len0 : Int)) = false := decide_eq_false (by omega)
  by_cases h1 : 300 < a1.size
  · have d1 : decide ((300 : Int) < (a1.size : Int)) = true := decide_eq_true (by omega)
    go_enter Try.func5, Try.ntmps5
    go_wp2_with (fail)
    refine (awake_any _).mono ?_
    rintro e w1 ⟨rfl, hb1⟩
    go_wp2
    go_ret
    exact ⟨rfl, hb1⟩
  have d1 : decide ((300 : Int) < (a1.size : Int)) = false := decide_eq_false (by omega)
  have HL := fun w h => Lib.hid (list_any a0 len0 cap0 l0 w h (by omega))
  obtain ⟨R, hR⟩ : ∃ R, pickL l0 = R := ⟨_, rfl⟩
  have hv : Valid R := by rw [← hR]; exact pickL_valid l0
  have hfl : (flatL R).length ≤ 82 * len0 := by rw [← hR, ← W0.out.1]; exact flat_pick l0
  rw [hR] at HL
  obtain ⟨t, ht⟩ : ∃ t : ByteArray, t = ⟨(flatL R).toArray⟩ := ⟨_, rfl⟩
  have htl : t.data.toList = flatL R := by rw [ht]
  have hts : t.size ≤ 1099511627776 := by rw [Lib.size_eq, htl]; omega
  unfold strV at HL
  rw [← ht] at HL
  obtain ⟨k, hk, hk1⟩ : ∃ k : Nat, a2 % ((a1.size : Int) + 1) = (k : Int) ∧ k ≤ a1.size := by
    have h1 := Int.emod_nonneg a2 (b := (a1.size : Int) + 1) (by omega)
    have h2 := Int.emod_lt_of_pos a2 (b := (a1.size : Int) + 1) (by omega)
    exact ⟨(a2 % ((a1.size : Int) + 1)).toNat, by omega, by omega⟩
  obtain ⟨n, hn⟩ : ∃ n, bestL R (winL a1.data.toList k a3) = n := ⟨_, rfl⟩
  obtain ⟨g, hg⟩ : ∃ g, bestL R (winL a1.data.toList k (a3 / 2)) = g := ⟨_, rfl⟩
  have q1 : g ≤ n := by rw [← hn, ← hg]; exact best_mono R (win_less _ _ _ _ (by omega))
  have q2 := best_le R (winL a1.data.toList k a3)
  obtain ⟨q3, q4⟩ := win_len a1.data.toList k a3 b3.1
  rw [← Lib.size_eq] at q4
  rw [hn] at q2
  have C1 := fun w => Lib.hid (longest_any t a1 (k : Int) a3 R w hts ⟨by omega, by omega⟩ ⟨by omega, by omega⟩ htl hv)
  have C2 := fun w => Lib.hid (longest_any t a1 (k : Int) (a3 / 2) R w hts ⟨by omega, by omega⟩ ⟨by omega, by omega⟩ htl hv)
  have CL := fun key w => Lib.hid (line_any t key R w hts htl hv)
  have KI := fun m h1 h2 h3 => Lib.hid (key_is hv a1.data.toList k m a3 h1 h2 h3)
  have KN := fun m h1 h2 h3 h4 => Lib.hid (key_no R a1.data.toList k m a3 h1 h2 h3 h4)
  rw [hn] at C1 KI KN
  rw [hg] at C2
  rw [← Lib.size_eq] at KN
  have e1 : decide ((n : Int) < 0) = false := decide_eq_false (by omega)
  have e2 : decide (a3 < (n : Int)) = false := decide_eq_false (by omega)
  have e3 : decide ((a1.size : Int) - (k : Int) < (n : Int)) = false := decide_eq_false (by omega)
  have e4 : decide ((g : Int) ≤ (n : Int)) = true := decide_eq_true (by omega)
  have HK := Lib.hid hk
  clear ht htl hts hv hfl hR hn hg q2 q3 q4
  unfold strV at CL
  go_enter Try.func5, Try.ntmps5
  go_wp2_with (fail)
  refine (awake_any _).mono ?_
  rintro e w1 ⟨rfl, hb1⟩
  have hs1 := hb1.size
  go_wp2_with (fail)
  refine (HL _ (W0.out.below hb1 (Nat.le_refl _))).out.mono ?_
  rintro e w2 ⟨rfl, hb2⟩
  have hs2 := hb2.size
  go_wp2_with (fail)
  rw [hk]
  clear hk
  refine (C1 _).out.mono ?_
  rintro e w3 ⟨rfl, n3, rfl⟩
  go_wp2
  go_loopw [13] (fun v wr => ∃ (m : Nat), v = .int .i64 (m : Int) ∧ 1 ≤ m ∧ m ≤ 301 ∧ Below w.heap.size w wr) (fun v _ => 301 - (intOf v).toNat)
  case atStart => exact ⟨1, rfl, Nat.le_refl _, by omega, (hb1.trans (hb2.mono hs1)).trans (dr_below _ w2 _)⟩
  case round =>
    obtain ⟨m, rfl, hm1, hm2, hb⟩ := hrel
    have hsb := hb.size
    by_cases hc1 : (m : Int) ≤ a3
    · have f1 : decide ((m : Int) ≤ a3) = true := decide_eq_true hc1
      by_cases hc2 : (m : Int) ≤ (a1.size : Int) - (k : Int)
      · have f2 : decide ((m : Int) ≤ (a1.size : Int) - (k : Int)) = true := decide_eq_true hc2
        have x1 : (k : Int) ≤ (k : Int) + (m : Int) := by omega
        have x2 : (k : Int) + (m : Int) ≤ (a1.size : Int) := by omega
        have x3 : ((k : Int) + (m : Int)).toNat = k + m := by omega
        have hkey : (a1.extract k (k + m)).data.toList = (a1.data.toList.drop k).take m := by rw [Lib.extract_data]; congr 1; omega
        have CM := fun w => CL (a1.extract k (k + m)) w
        rw [hkey] at CM
        obtain ⟨X, hX⟩ : ∃ X, (lookL R ((a1.data.toList.drop k).take m)).getD [] = X := ⟨_, rfl⟩
        rw [hX] at CM
        rcases Nat.lt_trichotomy m n with hmn | hmn | hmn
        · obtain ⟨B, hB⟩ : ∃ B, (lookL R ((a1.data.toList.drop k).take m)).isSome = B := ⟨_, rfl⟩
          rw [hB] at CM
          have g1 : ((m : Int) == (n : Int)) = false := by rw [beq_eq_false_iff_ne]; omega
          have g2 : decide ((n : Int) ≤ (m : Int)) = false := decide_eq_false (by omega)
          clear hX hB hkey KI KN CL C1 C2 HL
          cases B <;>
          (go_wp2_with (fail)
           refine (CM _).out.mono ?_
           rintro e w4 ⟨rfl, hb4⟩
           go_wp2
           exact ⟨⟨m + 1, by simp, by omega, by omega, hb.trans (hb4.mono hsb)⟩, by simp [intOf]; omega⟩)
        · have hB := (KI m (by omega) (by omega) hmn.symm).out
          rw [hB] at CM
          have g1 : ((m : Int) == (n : Int)) = true := by rw [beq_iff_eq]; omega
          clear hX hB hkey KI KN CL C1 C2 HL hmn
          go_wp2_with (fail)
          refine (CM _).out.mono ?_
          rintro e w4 ⟨rfl, hb4⟩
          go_wp2
          exact ⟨⟨m + 1, by simp, by omega, by omega, hb.trans (hb4.mono hsb)⟩, by simp [intOf]; omega⟩
        · have hB := (KN m (by omega) (by omega) (by omega) hmn).out
          rw [hB] at CM
          have g1 : ((m : Int) == (n : Int)) = false := by rw [beq_eq_false_iff_ne]; omega
          clear hX hB hkey KI KN CL C1 C2 HL
          go_wp2_with (fail)
          refine (CM _).out.mono ?_
          rintro e w4 ⟨rfl, hb4⟩
          go_wp2
          exact ⟨⟨m + 1, by simp, by omega, by omega, hb.trans (hb4.mono hsb)⟩, by simp [intOf]; omega⟩
      · have f2 : decide ((m : Int) ≤ (a1.size : Int) - (k : Int)) = false := decide_eq_false hc2
        go_wp2_with (fail)
        refine (C2 _).out.mono ?_
        rintro e w4 ⟨rfl, n4, rfl⟩
        go_wp2
        go_ret
        exact ⟨rfl, hb.trans ((dr_below _ _ n4).mono hsb)⟩
    · have f1 : decide ((m : Int) ≤ a3) = false := decide_eq_false hc1
      go_wp2_with (fail)
      refine (C2 _).out.mono ?_
      rintro e w4 ⟨rfl, n4, rfl⟩
      go_wp2
      go_ret
      exact ⟨rfl, hb.trans ((dr_below _ _ n4).mono hsb)⟩

set_option maxRecDepth 100000 in
theorem lifted (os : Os) (started : os.Started) (H : Type) (enc : TypeId × Value → H) :
    ReturnsInHanded {} Try.checked os 5 .any (Rows.searchLongestSpec.pre6 enc Try.prog Try.f5 Rows.searchLongestRow.domain false) (Rows.searchLongestSpec.post enc Try.prog Try.f5 false true false false) := by
  refine returnsInHanded_of_change (C := Try.checked) own started (by kernel_rfl) Try.func5
    (ChangeSpec.witness6 (enc := enc) (C := Try.checked) false ⟨#[], #[.slice none 0 0, .string ⟨#[]⟩, .int .u16 0, .int .u8 0], []⟩ 8 (by kernel_rfl) (by kernel_rfl) (by kernel_rfl) (by kernel_rfl)) ?_
  intro W base args ds gs before hval0 hW hcnd _
  have hval : ∀ (j : Nat) t v, Try.f5.params[j]? = some t → args[j]? = some v → Value.okWide Try.prog W .any base t v := hval0
  have hW' := hW
  obtain ⟨p, q, hA0, hV, rfl, hfz, hnd⟩ := hW
  have hA : DataW.TrodAll enc Try.prog W 0 (fun _ => true) true Try.f5.params.toList args.toList ds p := hA0
  rw [Try.params5] at hA hval
  obtain ⟨v0, vs0, d0, ds0, p0, q0, hargs, rfl, rfl, h0, r0⟩ := trodAll_cons hA
  obtain ⟨v1, vs1, d1, ds1, p1, q1, rfl, rfl, rfl, h1, r1⟩ := trodAll_cons r0
  obtain ⟨v2, vs2, d2, ds2, p2, q2, rfl, rfl, rfl, h2, r2⟩ := trodAll_cons r1
  obtain ⟨v3, vs3, d3, ds3, p3, q3, rfl, rfl, rfl, h3, r3⟩ := trodAll_cons r2
  obtain ⟨rfl, rfl, rfl⟩ := trodAll_nil r3
  obtain rfl : args = #[v0, v1, v2, v3] := by cases args; simp_all
  obtain ⟨rfl, rfl⟩ := trodVars_none hV
  obtain ⟨a0, len0, cap0, rfl⟩ := okWide_slice Try.underlying22 (hval 0 22 v0 rfl rfl)
  have k0 := h0
  have lt0 : ∀ x ∈ p0, x.block < W.heap.size := by obtain ⟨m, hm⟩ := k0; exact DataW.trod_lt m _ _ _ hm
  obtain ⟨l0, w0⟩ : ∃ l, IsRows W a0 len0 cap0 l := by
    obtain ⟨fuel, hf⟩ := h0
    rcases Go.Deep.open_slice_pairs Try.underlying22 Try.underlying31 (by kernel_rfl) rfl rfl (by kernel_rfl) (by kernel_rfl) hf with ⟨hcs, _⟩ | ⟨x, l, c, m, n, V0, V1, D0, D1, P0, P1, hcs, _, hl, hm, hmm, _, hx⟩
    · simp [Value.cells] at hcs
      obtain ⟨rfl, rfl, rfl⟩ := hcs
      exact ⟨[], rfl, Nat.le_refl _, by simp [maxLen], fun i hi => absurd hi (by simp)⟩
    · simp [Value.cells] at hcs
      obtain ⟨rfl, rfl, rfl⟩ := hcs
      refine isRows_mk hl hm fun i hi => ?_
      have him : i < m := by rw [hmm]; split <;> omega
      obtain ⟨c0, c1, t0, t1⟩ := hx i him
      obtain ⟨s0, e0, _, _⟩ := DataW.trod_string Try.underlying9 t0
      obtain ⟨s1, e1, _, _⟩ := DataW.trod_string Try.underlying9 t1
      rw [List.cons.injEq] at e0 e1
      rw [e0.1] at c0
      rw [e1.1] at c1
      exact ⟨s0, s1, c0, c1⟩
  obtain ⟨a1, rfl, rfl, rfl, w1⟩ := open_string Try.underlying9 (hval 1 9 v1 rfl rfl) h1
  obtain ⟨a2, rfl, rfl, rfl, w2⟩ := open_int Try.underlying33 (hval 2 33 v2 rfl rfl) h2
  obtain ⟨a3, rfl, rfl, rfl, w3⟩ := open_int Try.underlying5 (hval 3 5 v3 rfl rfl) h3
  clear hA0 hval0
  refine (walk a0 len0 cap0 l0 a1 a2 a3 W w0 w1 w2 w3).mono fun e W' ⟨he, bel⟩ => ?_
  subst he
  exact ⟨_, rfl, _, _, _, [], _, [], hW', trodAll_mk1 (shut_bool Try.underlying4 _), (trodAll_cons_mk (Below.trod laidOut (by kernel_rfl) (of_decide_eq_true (by kernel_rfl)) k0 bel lt0) (trodAll_cons_mk (shut_string Try.underlying9 w1) (trodAll_cons_mk (shut_int Try.underlying33 w2) (trodAll_cons_mk (shut_int Try.underlying5 w3) trodAll_mk0)))), rfl, bel.frame _, fun h => by cases h⟩

theorem over : Rows.searchLongestRow.holds Try.pinned (OpenSpec.ofChange Rows.searchLongestSpec) :=
  OpenClaim.holds_of_wide 5 Try.f5 rfl rfl rfl rfl rfl rfl rfl ⟨rfl, rfl, rfl, rfl, rfl⟩ rfl rfl rfl rfl rfl (by kernel_rfl) Try.func5 (by kernel_rfl)
    (of_decide_eq_true (by kernel_rfl)) (by unfold Func.isWrapper; first | (rw [if_pos (by decide +kernel)]; kernel_rfl) | (rw [if_neg (by decide +kernel)]; exact ⟨rfl, rfl⟩))
    (fun os started H enc _ => lifted os started H enc)

/-- the statement -/
theorem proved : Rows.SearchLongestSaid := over
end Go.Proofs.Ytanlneaolnkojaa.searchLongest
