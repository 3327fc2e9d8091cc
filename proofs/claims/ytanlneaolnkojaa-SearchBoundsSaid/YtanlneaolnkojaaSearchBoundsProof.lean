/-
  The law SearchBounds of flail/flaillaw05 answers true for every input, and changes nothing that was there. No condition.
-/
import Derived.Test.YtanlneaolnkojaaRows
import Derived.Test.YtanlneaolnkojaaRowLaws
import Derived.WalkKit
import Derived.ProofKit
import Derived.OpenShut
import Derived.ShutString
import Derived.ChangeOld
import Derived.Below
import Derived.Deep.SlicePairs
namespace Go.Proofs.Ytanlneaolnkojaa.searchBounds
open Go.ChangeShapes Go.WideShapes Go.ChangeAt Go.RowKit
open Go.ChangeMaps (open_string shut_string)
set_option linter.unusedVariables false

theorem own : ownKnob Try.prog.godebug = none := by kernel_rfl
theorem laidOut : laidOutB Try.prog = true := by kernel_rfl

theorem best_mono (rs : List Ln) {s s' : Txt} (h : s <+: s') : bestL rs s ≤ bestL rs s' := by
  rcases best_mem rs s with e | ⟨r, hr, hp, e⟩
  · omega
  · rw [e]; exact best_ge rs s' r hr (hp.trans h)
theorem best_self (rs : List Ln) (s : Txt) : bestL rs (s.take (bestL rs s)) = bestL rs s := by
  refine best_eq rs _ _ (fun r hr hp => best_ge rs s r hr (hp.trans (List.take_prefix _ _))) ?_
  rcases best_mem rs s with e | ⟨r, hr, hp, e⟩
  · exact .inl e
  · refine .inr ⟨r, hr, ?_, e⟩
    rw [e, List.prefix_iff_eq_take, List.take_take, Nat.min_self]
    exact List.prefix_iff_eq_take.1 hp
theorem win_pre (s : Txt) (m : Int) : winL s 0 m <+: s := by
  unfold winL
  split
  · exact List.nil_prefix
  · exact List.take_prefix _ _
theorem win_le (s : Txt) (m m' : Int) (h : m ≤ m') : winL s 0 m <+: winL s 0 m' := by
  unfold winL
  by_cases h1 : m < 1
  · rw [if_pos (by omega)]; exact List.nil_prefix
  · rw [if_neg (by omega), if_neg (by omega)]
    exact List.take_prefix_take_left (by omega)
theorem win_all (s : Txt) (m : Int) (h : (s.length : Int) ≤ m) (h1 : 1 ≤ m) : winL s 0 m = s := by
  unfold winL
  rw [if_neg (by omega)]
  exact List.take_of_length_le (by show s.length ≤ _; omega)
theorem win_take (s : Txt) (n : Nat) : winL s 0 (n : Int) = s.take n := by
  unfold winL
  split
  · have : n = 0 := by omega
    subst this; rfl
  · rw [show ((n : Nat) : Int).toNat = n by omega]; rfl
theorem win_one (c : UInt8) (s : Txt) (m : Int) (h : (s.length : Int) ≤ m) (h1 : 1 ≤ m) : winL (c :: s) 1 m = s := by
  unfold winL
  rw [if_neg (by omega)]
  exact List.take_of_length_le (by show s.length ≤ _; omega)

set_option maxRecDepth 100000 in
set_option maxHeartbeats 1000000 in
theorem walk (a0 : Option Addr) (len0 cap0 : Nat) (l0 : List Ln) (a1 : ByteArray) (a2 : Int) (a3 : Int) (w : World) (w0 : IsRows w a0 len0 cap0 l0) (w1 : a1.size ≤ maxLen) (w2 : (Lit.int .u8 a2).wf = true) (w3 : (Lit.int .u8 a3).wf = true) :
    Calls Try.prog 7 #[.slice a0 len0 cap0, .string a1, .int .u8 a2, .int .u8 a3] w fun e w' => e = .returned (.bool true) ∧ Below w.heap.size w w' := by
  have b2 : 0 ≤ a2 ∧ a2 ≤ 255 := by simpa [Lit.wf, IntKind.min, IntKind.max, IntKind.signed, IntKind.bits] using w2
  have b3 : 0 ≤ a3 ∧ a3 ≤ 255 := by simpa [Lit.wf, IntKind.min, IntKind.max, IntKind.signed, IntKind.bits] using w3
  have W0 := Lib.hid w0
  clear w0 w1 w2 w3
  by_cases h0 : 100 < len0
  · have d0 : decide ((100 : Int) < (len0 : Int)) = true := decide_eq_true (by omega)
    go_enter Try.func7, Try.ntmps7
    go_wp2_with (fail)
    refine (awake_any _).mono ?_
    rintro e w1 ⟨rfl, hb1⟩
    go_wp2
    go_ret
    exact ⟨rfl, hb1⟩
  have d0 : decide ((100 : Int) < (len0 : Int)) = false := decide_eq_false (by omega)
  by_cases h1 : 300 < a1.size
  · have d1 : decide ((300 : Int) < (a1.size : Int)) = true := decide_eq_true (by omega)
    go_enter Try.func7, Try.ntmps7
    go_wp2_with (fail)
    refine (awake_any _).mono ?_
    rintro e w1 ⟨rfl, hb1⟩
    go_wp2
    go_ret
    exact ⟨rfl, hb1⟩
  have d1 : decide ((300 : Int) < (a1.size : Int)) = false := decide_eq_false (by omega)
  have HL := fun w h => Lib.hid (list_any a0 len0 cap0 l0 w h (by omega))
  obtain ⟨R, hR⟩ : ∃ R, pickL l0 = R := ⟨_, rfl⟩
  have hv : Valid R := by rw [← hR]; exact pickL_valid l0
  have hfl : (flatL R).length ≤ 82 * len0 := by rw [← hR, ← W0.out.1]; exact flat_pick l0
  rw [hR] at HL
  obtain ⟨t, ht⟩ : ∃ t : ByteArray, t = ⟨(flatL R).toArray⟩ := ⟨_, rfl⟩
  have htl : t.data.toList = flatL R := by rw [ht]
  have hts : t.size ≤ 1099511627776 := by rw [Lib.size_eq, htl]; omega
  unfold strV at HL
  rw [← ht] at HL
  have hl1 : a1.data.toList.length ≤ 300 := by rw [← Lib.size_eq]; omega
  obtain ⟨al, hal⟩ : ∃ al, bestL R a1.data.toList = al := ⟨_, rfl⟩
  obtain ⟨n, hn⟩ : ∃ n, bestL R (winL a1.data.toList 0 a2) = n := ⟨_, rfl⟩
  obtain ⟨m, hm⟩ : ∃ m, bestL R (winL a1.data.toList 0 (a2 + a3)) = m := ⟨_, rfl⟩
  have q1 : n ≤ m := by rw [← hn, ← hm]; exact best_mono R (win_le _ _ _ (by omega))
  have q2 : m ≤ al := by rw [← hm, ← hal]; exact best_mono R (win_pre _ _)
  have q3 : al ≤ 300 := by rw [← hal]; have := best_le R a1.data.toList; omega
  have C1 := fun w => Lib.hid (longest_any t a1 0 a2 R w hts ⟨by omega, by omega⟩ ⟨by omega, by omega⟩ htl hv)
  have C2 := fun w => Lib.hid (longest_any t a1 0 (a2 + a3) R w hts ⟨by omega, by omega⟩ ⟨by omega, by omega⟩ htl hv)
  have C3 := fun w => Lib.hid (longest_any t a1 0 300 R w hts ⟨by omega, by omega⟩ ⟨by omega, by omega⟩ htl hv)
  have C4 := fun w => Lib.hid (longest_any t (⟨#[120]⟩ ++ a1) 1 300 R w hts ⟨by omega, by omega⟩ ⟨by omega, by omega⟩ htl hv)
  have C5 := fun w => Lib.hid (longest_any t a1 0 (al : Int) R w hts ⟨by omega, by omega⟩ ⟨by omega, by omega⟩ htl hv)
  have C6 := fun w => Lib.hid (longest_any t a1 0 ((al : Int) + 1000) R w hts ⟨by omega, by omega⟩ ⟨by omega, by omega⟩ htl hv)
  have hx : ((⟨#[120]⟩ : ByteArray) ++ a1).data.toList = 120 :: a1.data.toList := by rw [ByteArray.data_append, Array.toList_append]; rfl
  rw [hn] at C1
  rw [hm] at C2
  rw [win_all _ _ (by omega) (by omega), hal] at C3
  rw [hx, win_one _ _ _ (by omega) (by omega), hal] at C4
  have hse := best_self R a1.data.toList
  rw [hal] at hse
  rw [win_take, hse] at C5
  rw [win_all _ _ (by omega) (by omega), hal] at C6
  have s1 : ¬ 9223372036854775807 < (⟨#[120]⟩ : ByteArray).size + a1.size := by rw [show (⟨#[120]⟩ : ByteArray).size = 1 from rfl]; omega
  have d3 : decide ((n : Int) ≤ (m : Int)) = true := decide_eq_true (by omega)
  have d4 : decide ((m : Int) ≤ (al : Int)) = true := decide_eq_true (by omega)
  clear hn hm hal ht htl hts hv hfl hR hx hl1 hse
  go_enter Try.func7, Try.ntmps7
  go_wp2_with (fail)
  refine (awake_any _).mono ?_
  rintro e w1 ⟨rfl, hb1⟩
  have hs1 := hb1.size
  go_wp2_with (fail)
  refine (HL _ (W0.out.below hb1 (Nat.le_refl _))).out.mono ?_
  rintro e w2 ⟨rfl, hb2⟩
  have hs2 := hb2.size
  go_wp2_with (fail)
  refine (C1 _).out.mono ?_
  rintro e w3 ⟨rfl, n1, rfl⟩
  go_wp2_with (fail)
  refine (C2 _).out.mono ?_
  rintro e w3 ⟨rfl, n2, rfl⟩
  go_wp2_with (fail)
  refine (C3 _).out.mono ?_
  rintro e w3 ⟨rfl, n3, rfl⟩
  go_wp2_with (fail)
  refine (C4 _).out.mono ?_
  rintro e w3 ⟨rfl, n4, rfl⟩
  go_wp2_with (fail)
  refine (C5 _).out.mono ?_
  rintro e w3 ⟨rfl, n5, rfl⟩
  go_wp2_with (fail)
  refine (C6 _).out.mono ?_
  rintro e w3 ⟨rfl, n6, rfl⟩
  go_wp2
  go_ret
  exact ⟨rfl, (hb1.trans (hb2.mono hs1)).trans (dr_below _ w2 _)⟩

set_option maxRecDepth 100000 in
theorem lifted (os : Os) (started : os.Started) (H : Type) (enc : TypeId × Value → H) :
    ReturnsInHanded {} Try.checked os 7 .any (Rows.searchBoundsSpec.pre6 enc Try.prog Try.f7 Rows.searchBoundsRow.domain false) (Rows.searchBoundsSpec.post enc Try.prog Try.f7 false true false false) := by
  refine returnsInHanded_of_change (C := Try.checked) own started (by kernel_rfl) Try.func7
    (ChangeSpec.witness6 (enc := enc) (C := Try.checked) false ⟨#[], #[.slice none 0 0, .string ⟨#[]⟩, .int .u8 0, .int .u8 0], []⟩ 8 (by kernel_rfl) (by kernel_rfl) (by kernel_rfl) (by kernel_rfl)) ?_
  intro W base args ds gs before hval0 hW hcnd _
  have hval : ∀ (j : Nat) t v, Try.f7.params[j]? = some t → args[j]? = some v → Value.okWide Try.prog W .any base t v := hval0
  have hW' := hW
  obtain ⟨p, q, hA0, hV, rfl, hfz, hnd⟩ := hW
  have hA : DataW.TrodAll enc Try.prog W 0 (fun _ => true) true Try.f7.params.toList args.toList ds p := hA0
  rw [Try.params7] at hA hval
  obtain ⟨v0, vs0, d0, ds0, p0, q0, hargs, rfl, rfl, h0, r0⟩ := trodAll_cons hA
  obtain ⟨v1, vs1, d1, ds1, p1, q1, rfl, rfl, rfl, h1, r1⟩ := trodAll_cons r0
  obtain ⟨v2, vs2, d2, ds2, p2, q2, rfl, rfl, rfl, h2, r2⟩ := trodAll_cons r1
  obtain ⟨v3, vs3, d3, ds3, p3, q3, rfl, rfl, rfl, h3, r3⟩ := trodAll_cons r2
  obtain ⟨rfl, rfl, rfl⟩ := trodAll_nil r3
  obtain rfl : args = #[v0, v1, v2, v3] := by cases args; simp_all
  obtain ⟨rfl, rfl⟩ := trodVars_none hV
  obtain ⟨a0, len0, cap0, rfl⟩ := okWide_slice Try.underlying22 (hval 0 22 v0 rfl rfl)
  have k0 := h0
  have lt0 : ∀ x ∈ p0, x.block < W.heap.size := by obtain ⟨m, hm⟩ := k0; exact DataW.trod_lt m _ _ _ hm
  obtain ⟨l0, w0⟩ : ∃ l, IsRows W a0 len0 cap0 l := by
    obtain ⟨fuel, hf⟩ := h0
    rcases Go.Deep.open_slice_pairs Try.underlying22 Try.underlying31 (by kernel_rfl) rfl rfl (by kernel_rfl) (by kernel_rfl) hf with ⟨hcs, _⟩ | ⟨x, l, c, m, n, V0, V1, D0, D1, P0, P1, hcs, _, hl, hm, hmm, _, hx⟩
    · simp [Value.cells] at hcs
      obtain ⟨rfl, rfl, rfl⟩ := hcs
      exact ⟨[], rfl, Nat.le_refl _, by simp [maxLen], fun i hi => absurd hi (by simp)⟩
    · simp [Value.cells] at hcs
      obtain ⟨rfl, rfl, rfl⟩ := hcs
      refine isRows_mk hl hm fun i hi => ?_
      have him : i < m := by rw [hmm]; split <;> omega
      obtain ⟨c0, c1, t0, t1⟩ := hx i him
      obtain ⟨s0, e0, _, _⟩ := DataW.trod_string Try.underlying9 t0
      obtain ⟨s1, e1, _, _⟩ := DataW.trod_string Try.underlying9 t1
      rw [List.cons.injEq] at e0 e1
      rw [e0.1] at c0
      rw [e1.1] at c1
      exact ⟨s0, s1, c0, c1⟩
  obtain ⟨a1, rfl, rfl, rfl, w1⟩ := open_string Try.underlying9 (hval 1 9 v1 rfl rfl) h1
  obtain ⟨a2, rfl, rfl, rfl, w2⟩ := open_int Try.underlying5 (hval 2 5 v2 rfl rfl) h2
  obtain ⟨a3, rfl, rfl, rfl, w3⟩ := open_int Try.underlying5 (hval 3 5 v3 rfl rfl) h3
  clear hA0 hval0
  refine (walk a0 len0 cap0 l0 a1 a2 a3 W w0 w1 w2 w3).mono fun e W' ⟨he, bel⟩ => ?_
  subst he
  exact ⟨_, rfl, _, _, _, [], _, [], hW', trodAll_mk1 (shut_bool Try.underlying4 _), (trodAll_cons_mk (Below.trod laidOut (by kernel_rfl) (of_decide_eq_true (by kernel_rfl)) k0 bel lt0) (trodAll_cons_mk (shut_string Try.underlying9 w1) (trodAll_cons_mk (shut_int Try.underlying5 w2) (trodAll_cons_mk (shut_int Try.underlying5 w3) trodAll_mk0)))), rfl, bel.frame _, fun h => by cases h⟩

theorem over : Rows.searchBoundsRow.holds Try.pinned (OpenSpec.ofChange Rows.searchBoundsSpec) :=
  OpenClaim.holds_of_wide 7 Try.f7 rfl rfl rfl rfl rfl rfl rfl ⟨rfl, rfl, rfl, rfl, rfl⟩ rfl rfl rfl rfl rfl (by kernel_rfl) Try.func7 (by kernel_rfl)
    (of_decide_eq_true (by kernel_rfl)) (by unfold Func.isWrapper; first | (rw [if_pos (by decide +kernel)]; kernel_rfl) | (rw [if_neg (by decide +kernel)]; exact ⟨rfl, rfl⟩))
    (fun os started H enc _ => lifted os started H enc)

/-- the statement -/
theorem proved : Rows.SearchBoundsSaid := over
end Go.Proofs.Ytanlneaolnkojaa.searchBounds
