/-
  The law SearchEach of flail/flaillaw05 answers true for every input, and changes nothing that was there. No condition.
-/
import Derived.Test.YtanlneaolnkojaaRows
import Derived.Test.YtanlneaolnkojaaRowLaws
import Derived.WalkKit
import Derived.ProofKit
import Derived.OpenShut
import Derived.ShutString
import Derived.ChangeOld
import Derived.Below
import Derived.Deep.SlicePairs
namespace Go.Proofs.Ytanlneaolnkojaa.searchEach
open Go.ChangeShapes Go.WideShapes Go.ChangeAt Go.RowKit
open Go.ChangeMaps (open_string shut_string)
set_option linter.unusedVariables false

theorem own : ownKnob Try.prog.godebug = none := by kernel_rfl
theorem laidOut : laidOutB Try.prog = true := by kernel_rfl

set_option maxRecDepth 100000 in
set_option maxHeartbeats 1000000 in
theorem line_none (t key : ByteArray) (rs : List Ln) (w : World) (hs : t.size ≤ 1099511627776) (ht : t.data.toList = flatL rs) (hv : Valid rs) (hn : ∀ r ∈ rs, r.1 ≠ key.data.toList) :
    Calls Try.prog 10 #[.string t, .string key] w fun e w' => e = .returned (.tuple #[.string ⟨#[]⟩, .bool false]) ∧ ∃ n, w' = w.drewN n := by
  have HC := fun w => Lib.hid (atMost_any t key rs w hs ht hv)
  have hN : key.data.toList = [] ∨ keyAt rs (amI rs key.data.toList) ≠ key.data.toList := by
    by_cases h0 : key.data.toList = []
    · exact .inl h0
    · refine .inr fun h1 => ?_
      have h2 := line_yes hv key.data.toList h0 h1
      rw [lookL_none rs _ hn] at h2
      cases h2
  obtain ⟨K, hK⟩ : ∃ K, keyAt rs (amI rs key.data.toList) = K := ⟨_, rfl⟩
  obtain ⟨R, hR⟩ : ∃ R, restAt rs (amI rs key.data.toList) = R := ⟨_, rfl⟩
  rw [hK, hR] at HC
  rw [hK] at hN
  clear hK hR ht hv hn
  unfold strV at *
  by_cases h0 : key.toList = []
  · have h0' : key.toList.isEmpty = true := by rw [h0]; rfl
    clear hN
    go_enter Try.func10, Try.ntmps10
    go_wp2_with (fail)
    refine (HC _).out.mono ?_
    rintro e w1 ⟨rfl, n1, rfl⟩
    go_wp2
    go_ret2
    exact ⟨rfl, n1, rfl⟩
  · have h0' : key.toList.isEmpty = false := by simpa using h0
    have h1' : (K == key.toList) = false := by
      rw [ByteArray.toList_eq, beq_eq_false_iff_ne]
      exact hN.resolve_left (by rw [← ByteArray.toList_eq]; exact h0)
    clear hN
    go_enter Try.func10, Try.ntmps10
    go_wp2_with (fail)
    refine (HC _).out.mono ?_
    rintro e w1 ⟨rfl, n1, rfl⟩
    go_wp2
    go_ret2
    exact ⟨rfl, n1, rfl⟩

set_option maxRecDepth 100000 in
set_option maxHeartbeats 4000000 in
theorem walk (a0 : Option Addr) (len0 cap0 : Nat) (l0 : List Ln) (a1 : ByteArray) (w : World) (w0 : IsRows w a0 len0 cap0 l0) (w1 : a1.size ≤ maxLen) :
    Calls Try.prog 4 #[.slice a0 len0 cap0, .string a1] w fun e w' => e = .returned (.bool true) ∧ Below w.heap.size w w' := by
  have W0 := Lib.hid w0
  clear w0 w1
  by_cases h0 : 100 < len0
  · have d0 : decide ((100 : Int) < (len0 : Int)) = true := decide_eq_true (by omega)
    go_enter Try.func4, Try.ntmps4
    go_wp2_with (fail)
    refine (awake_any _).mono ?_
    rintro e w1 ⟨rfl, hb1⟩
    go_wp2
    go_ret
    exact ⟨rfl, hb1⟩
  have d0 : decide ((100 : Int) < (len0 : Int)) = false := decide_eq_false (by omega)
  by_cases h1 : 40 < a1.size
  · have d1 : decide ((40 : Int) < (a1.size : Int)) = true := decide_eq_true (by omega)
    go_enter Try.func4, Try.ntmps4
    go_wp2_with (fail)
    refine (awake_any _).mono ?_
    rintro e w1 ⟨rfl, hb1⟩
    go_wp2
    go_ret
    exact ⟨rfl, hb1⟩
  have d1 : decide ((40 : Int) < (a1.size : Int)) = false := decide_eq_false (by omega)
  have HL := fun w h => Lib.hid (list_any a0 len0 cap0 l0 w h (by omega))
  obtain ⟨R, hR⟩ : ∃ R, pickL l0 = R := ⟨_, rfl⟩
  have hv : Valid R := by rw [← hR]; exact pickL_valid l0
  have hsm : Small R := by rw [← hR]; exact pickL_small l0
  have hfl : (flatL R).length ≤ 82 * len0 := by rw [← hR, ← W0.out.1]; exact flat_pick l0
  rw [hR] at HL
  obtain ⟨t, ht⟩ : ∃ t : ByteArray, t = ⟨(flatL R).toArray⟩ := ⟨_, rfl⟩
  have htl : t.data.toList = flatL R := by rw [ht]
  have hts : t.size ≤ 1099511627776 := by rw [Lib.size_eq, htl]; omega
  unfold strV at HL
  rw [← ht] at HL
  have HRW := fun w => Lib.hid (rows_any t w hts)
  rw [htl, rowsL_flat R hv] at HRW
  have CL := fun key w => Lib.hid (line_any t key R w hts htl hv)
  have CN := fun key w h => Lib.hid (line_none t key R w hts htl hv h)
  have HV := Lib.hid hv
  have HSM := Lib.hid hsm
  obtain ⟨n, hn⟩ : ∃ n, R.length = n := ⟨_, rfl⟩
  simp only [hn] at HRW
  have HN := Lib.hid hn
  clear ht htl hts hv hsm hfl hR hn
  unfold strV at CL
  go_enter Try.func4, Try.ntmps4
  go_wp2_with (fail)
  refine (awake_any _).mono ?_
  rintro e w1 ⟨rfl, hb1⟩
  have hs1 := hb1.size
  go_wp2_with (fail)
  refine (HL _ (W0.out.below hb1 (Nat.le_refl _))).out.mono ?_
  rintro e w2 ⟨rfl, hb2⟩
  have hs2 := hb2.size
  go_wp2_with (fail)
  refine (HRW _).out.mono ?_
  rintro e w3 ⟨a, cap, rfl, hr3, hb3⟩
  have hmx := hr3.2.2.1
  have hnc := hr3.2.1
  unfold maxLen at hmx
  have HR3 := Lib.hid hr3
  clear hr3 HRW HL
  go_wp2
  go_loopw [8] (fun v wr => ∃ (i : Nat), v = .int .i64 (i : Int) ∧ i ≤ n ∧ IsRows wr a n cap R ∧ Below w.heap.size w wr) (fun v _ => n - (intOf v).toNat)
  case atStart => exact ⟨0, rfl, Nat.zero_le _, HR3.out, (hb1.trans (hb2.mono hs1)).trans (hb3.mono (by omega))⟩
  case round =>
    obtain ⟨i, rfl, hi, hr, hb⟩ := hrel
    have hsb := hb.size
    clear HR3
    by_cases hlt : i < n
    · have hiR : i < R.length := by rw [HN.out]; exact hlt
      obtain ⟨x, rfl, hc0, hc1⟩ := hr.2.2.2 i hiR
      rw [add_succ] at hc1
      have hla := lookL_at HV.out i hiR
      have hgd := HV.out.1 _ (List.getElem_mem hiR)
      have hss := HSM.out _ (List.getElem_mem hiR)
      obtain ⟨r, hrr⟩ : ∃ r, R[i] = r := ⟨_, rfl⟩
      rw [hrr] at hc0 hc1 hla hgd hss
      unfold strV at hc0 hc1
      have hk : (⟨r.1.toArray⟩ : ByteArray).data.toList = r.1 := List.toList_toArray
      have C1 := fun w => CL ⟨r.1.toArray⟩ w
      rw [hk, hla] at C1
      simp only [Option.getD_some, Option.isSome_some] at C1
      have C2 := fun w => CN ((⟨r.1.toArray⟩ : ByteArray) ++ ⟨#[10]⟩ ++ a1) w (fun q hq e => (HV.out.1 q hq).2.2.1 (by rw [e]; simp))
      have C3 := fun w => CN ((⟨r.1.toArray⟩ : ByteArray) ++ ⟨#[32]⟩ ++ ⟨r.2.toArray⟩) w (fun q hq e => (HV.out.1 q hq).2.1 (by rw [e]; simp))
      have z1 : (⟨r.1.toArray⟩ : ByteArray).size = r.1.length := by rw [Lib.size_eq, hk]
      have z2 : (⟨r.2.toArray⟩ : ByteArray).size = r.2.length := by rw [Lib.size_eq, List.toList_toArray]
      have y1 : (⟨#[32]⟩ : ByteArray).size = 1 := rfl
      have s1 : ¬ 9223372036854775807 < (⟨r.1.toArray⟩ : ByteArray).size + (⟨#[32]⟩ : ByteArray).size := by omega
      have s4 : ¬ 9223372036854775807 < r.1.length + 1 := by omega
      have s5 : ¬ 9223372036854775807 < r.1.length + 1 + r.2.length := by omega
      have s3 : ¬ 9223372036854775807 < r.1.length + 1 + a1.size := by omega
      have s2 : ¬ 9223372036854775807 < ((⟨r.1.toArray⟩ : ByteArray) ++ ⟨#[32]⟩).size + (⟨r.2.toArray⟩ : ByteArray).size := by rw [ByteArray.size_append]; omega
      obtain ⟨l1, l2⟩ := hss
      have HR := Lib.hid hr
      clear hr hla hgd hrr hk z1 z2 y1 CL CN hiR
      go_wp2_with (fail)
      refine (C1 _).out.mono ?_
      rintro e w4 ⟨rfl, hb4⟩
      have hr4 := HR.out.below hb4 (Nat.le_refl _)
      have HR4 := Lib.hid hr4
      have k0 : w4.cell? (x.add (i * 2)) = _ := (hb4.cell (block_lt_of_cell hc0)).trans hc0
      have k1 : w4.cell? ⟨(x.add (i * 2)).block, (x.add (i * 2)).off + 1, none⟩ = _ := (hb4.cell (block_lt_of_cell hc1)).trans hc1
      have hs4 := hb4.size
      clear hr4 hc0 hc1 HR
      go_wp2_with (fail)
      refine (C2 _).out.mono ?_
      rintro e w5 ⟨rfl, n5, hw5⟩
      have k0' : w5.cell? (x.add (i * 2)) = some (.string ⟨r.1.toArray⟩) := by rw [hw5]; exact k0
      have k1' : w5.cell? ⟨(x.add (i * 2)).block, (x.add (i * 2)).off + 1, none⟩ = some (.string ⟨r.2.toArray⟩) := by rw [hw5]; exact k1
      have hb5 : Below w4.heap.size w4 w5 := by rw [hw5]; exact dr_below _ _ _
      have HR5 := Lib.hid (HR4.out.below hb5 (Nat.le_refl _))
      clear hw5 k0 k1 HR4
      go_wp2
      go_quiet ((go_at_call 10; refine (C3 _).out.mono ?_; rintro e w'' ⟨rfl, n, rfl⟩; first | exact ⟨rfl, _, World.drewN_drewN ..⟩ | exact ⟨rfl, _, rfl⟩))
      go_wp2
      have hb6 : Below w.heap.size w w5 := (hb.trans (hb4.mono hsb)).trans (hb5.mono (by omega))
      exact ⟨⟨i + 1, by simp, by omega, HR5.out.below (dr_below _ w5 nq) (Nat.le_refl _), hb6.trans (dr_below _ w5 nq)⟩, by simp [intOf]; omega⟩
    · clear CL
      have C4 := fun w => CN ⟨#[]⟩ w (fun q hq => (HV.out.1 q hq).1)
      clear CN
      go_wp2_with (fail)
      refine (C4 _).out.mono ?_
      rintro e w4 ⟨rfl, n4, rfl⟩
      go_wp2
      go_ret
      exact ⟨rfl, hb.trans ((dr_below _ _ n4).mono hsb)⟩

set_option maxRecDepth 100000 in
theorem lifted (os : Os) (started : os.Started) (H : Type) (enc : TypeId × Value → H) :
    ReturnsInHanded {} Try.checked os 4 .any (Rows.searchEachSpec.pre6 enc Try.prog Try.f4 Rows.searchEachRow.domain false) (Rows.searchEachSpec.post enc Try.prog Try.f4 false true false false) := by
  refine returnsInHanded_of_change (C := Try.checked) own started (by kernel_rfl) Try.func4
    (ChangeSpec.witness6 (enc := enc) (C := Try.checked) false ⟨#[], #[.slice none 0 0, .string ⟨#[]⟩], []⟩ 8 (by kernel_rfl) (by kernel_rfl) (by kernel_rfl) (by kernel_rfl)) ?_
  intro W base args ds gs before hval0 hW hcnd _
  have hval : ∀ (j : Nat) t v, Try.f4.params[j]? = some t → args[j]? = some v → Value.okWide Try.prog W .any base t v := hval0
  have hW' := hW
  obtain ⟨p, q, hA0, hV, rfl, hfz, hnd⟩ := hW
  have hA : DataW.TrodAll enc Try.prog W 0 (fun _ => true) true Try.f4.params.toList args.toList ds p := hA0
  rw [Try.params4] at hA hval
  obtain ⟨v0, vs0, d0, ds0, p0, q0, hargs, rfl, rfl, h0, r0⟩ := trodAll_cons hA
  obtain ⟨v1, vs1, d1, ds1, p1, q1, rfl, rfl, rfl, h1, r1⟩ := trodAll_cons r0
  obtain ⟨rfl, rfl, rfl⟩ := trodAll_nil r1
  obtain rfl : args = #[v0, v1] := by cases args; simp_all
  obtain ⟨rfl, rfl⟩ := trodVars_none hV
  obtain ⟨a0, len0, cap0, rfl⟩ := okWide_slice Try.underlying22 (hval 0 22 v0 rfl rfl)
  have k0 := h0
  have lt0 : ∀ x ∈ p0, x.block < W.heap.size := by obtain ⟨m, hm⟩ := k0; exact DataW.trod_lt m _ _ _ hm
  obtain ⟨l0, w0⟩ : ∃ l, IsRows W a0 len0 cap0 l := by
    obtain ⟨fuel, hf⟩ := h0
    rcases Go.Deep.open_slice_pairs Try.underlying22 Try.underlying31 (by kernel_rfl) rfl rfl (by kernel_rfl) (by kernel_rfl) hf with ⟨hcs, _⟩ | ⟨x, l, c, m, n, V0, V1, D0, D1, P0, P1, hcs, _, hl, hm, hmm, _, hx⟩
    · simp [Value.cells] at hcs
      obtain ⟨rfl, rfl, rfl⟩ := hcs
      exact ⟨[], rfl, Nat.le_refl _, by simp [maxLen], fun i hi => absurd hi (by simp)⟩
    · simp [Value.cells] at hcs
      obtain ⟨rfl, rfl, rfl⟩ := hcs
      refine isRows_mk hl hm fun i hi => ?_
      have him : i < m := by rw [hmm]; split <;> omega
      obtain ⟨c0, c1, t0, t1⟩ := hx i him
      obtain ⟨s0, e0, _, _⟩ := DataW.trod_string Try.underlying9 t0
      obtain ⟨s1, e1, _, _⟩ := DataW.trod_string Try.underlying9 t1
      rw [List.cons.injEq] at e0 e1
      rw [e0.1] at c0
      rw [e1.1] at c1
      exact ⟨s0, s1, c0, c1⟩
  obtain ⟨a1, rfl, rfl, rfl, w1⟩ := open_string Try.underlying9 (hval 1 9 v1 rfl rfl) h1
  clear hA0 hval0
  refine (walk a0 len0 cap0 l0 a1 W w0 w1).mono fun e W' ⟨he, bel⟩ => ?_
  subst he
  exact ⟨_, rfl, _, _, _, [], _, [], hW', trodAll_mk1 (shut_bool Try.underlying4 _), (trodAll_cons_mk (Below.trod laidOut (by kernel_rfl) (of_decide_eq_true (by kernel_rfl)) k0 bel lt0) (trodAll_cons_mk (shut_string Try.underlying9 w1) trodAll_mk0)), rfl, bel.frame _, fun h => by cases h⟩

theorem over : Rows.searchEachRow.holds Try.pinned (OpenSpec.ofChange Rows.searchEachSpec) :=
  OpenClaim.holds_of_wide 4 Try.f4 rfl rfl rfl rfl rfl rfl rfl ⟨rfl, rfl, rfl, rfl, rfl⟩ rfl rfl rfl rfl rfl (by kernel_rfl) Try.func4 (by kernel_rfl)
    (of_decide_eq_true (by kernel_rfl)) (by unfold Func.isWrapper; first | (rw [if_pos (by decide +kernel)]; kernel_rfl) | (rw [if_neg (by decide +kernel)]; exact ⟨rfl, rfl⟩))
    (fun os started H enc _ => lifted os started H enc)

/-- the statement -/
theorem proved : Rows.SearchEachSaid := over
end Go.Proofs.Ytanlneaolnkojaa.searchEach
