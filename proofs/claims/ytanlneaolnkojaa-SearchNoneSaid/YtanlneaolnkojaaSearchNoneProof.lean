/-
  The law SearchNone of flail/flaillaw05 answers true for every input, and changes nothing that was there. No condition.
-/
import Derived.Test.YtanlneaolnkojaaRows
import Derived.Test.YtanlneaolnkojaaRowLaws
import Derived.WalkKit
import Derived.ProofKit
import Derived.OpenShut
import Derived.ShutString
import Derived.ChangeOld
import Derived.Below
import Derived.Lib.SmallJoins
namespace Go.Proofs.Ytanlneaolnkojaa.searchNone
open Go.ChangeShapes Go.WideShapes Go.ChangeAt Go.RowKit
open Go.ChangeMaps (open_string shut_string)
set_option linter.unusedVariables false

theorem own : ownKnob Try.prog.godebug = none := by kernel_rfl
theorem laidOut : laidOutB Try.prog = true := by kernel_rfl

theorem look_one (k r key : Txt) : lookL [(k, r)] key = if key = k then some r else none := by
  unfold lookL
  by_cases h : key = k
  · subst h; simp
  · rw [if_neg h, List.find?_eq_none.2 (fun x hx => by
      rw [List.mem_singleton] at hx; subst hx
      simpa using fun e => h e.symm)]
    rfl
theorem best_one (k r s : Txt) (hk : 0 < k.length) : bestL [(k, r)] (winL (k ++ s) 0 (k.length : Int)) = k.length := by
  have e : winL (k ++ s) 0 (k.length : Int) = k := by
    unfold winL
    rw [if_neg (by omega)]
    simp
  rw [e]
  exact best_eq _ _ _ (fun x hx hp => hp.length_le) (.inr ⟨(k, r), by simp, List.prefix_refl _, rfl⟩)
theorem pick_one (x : Ln) : pickL [x] = if okR [] x then [x] else [] := rfl

/-- what holds of the struct that came in, and of the memory, while the law goes on -/
def BoxI (w w1 : World) (a b : Value) : Prop := Below w.heap.size w w1 ∧ w1.cell? ⟨w.heap.size, 0, none⟩ = some a ∧ w1.cell? ⟨w.heap.size, 1, none⟩ = some b ∧ w.heap.size < w1.heap.size
theorem BoxI.below {w w1 w2 : World} {a b : Value} (h : BoxI w w1 a b) (hb : Below w1.heap.size w1 w2) : BoxI w w2 a b :=
  ⟨h.1.trans (hb.mono h.1.size), (hb.cell h.2.2.2).trans h.2.1, (hb.cell h.2.2.2).trans h.2.2.1, Nat.lt_of_lt_of_le h.2.2.2 hb.size⟩
theorem BoxI.new (w : World) (a b : Value) (e : TypeId) : BoxI w (w.alloc (.cells #[a, b] e)) a b :=
  ⟨below_new (Below.refl _ w) _, by rw [cell_of_row _ _ _ _ _ _ (heap_alloc_new w _)]; rfl, by rw [cell_of_row _ _ _ _ _ _ (heap_alloc_new w _)]; rfl, by simp⟩
theorem BoxI.alloc {w w1 : World} {a b : Value} (h : BoxI w w1 a b) (o : Obj) : BoxI w (w1.alloc o) a b := h.below ((Below.refl _ _).alloc (Nat.le_refl _) o)
theorem rows_single (w : World) (a b : ByteArray) (e : TypeId) : IsRows (w.alloc (.cells #[.string a, .string b] e)) (some ⟨w.heap.size, 0, none⟩) 1 1 [(a.data.toList, b.data.toList)] := by
  refine ⟨rfl, Nat.le_refl _, by simp [maxLen], fun i hi => ?_⟩
  have : i = 0 := by simpa using hi
  subst this
  exact ⟨_, rfl, new_two w _ _ e 0 _ rfl, new_two w _ _ e 1 _ rfl⟩

set_option maxRecDepth 100000 in
set_option maxHeartbeats 1000000 in
theorem walk (a0 b0 : ByteArray) (a1 : ByteArray) (a2 : ByteArray) (a3 : Int) (a4 : Int) (w : World) (w0 : a0.size ≤ maxLen) (x0 : b0.size ≤ maxLen) (w1 : a1.size ≤ maxLen) (w2 : a2.size ≤ maxLen) (w3 : (Lit.int .i64 a3).wf = true) (w4 : (Lit.int .i64 a4).wf = true) :
    Calls Try.prog 6 #[.agg #[.string a0, .string b0], .string a1, .string a2, .int .i64 a3, .int .i64 a4] w fun e w' => e = .returned (.bool true) ∧ Below w.heap.size w w' := by
  have b3 : -9223372036854775808 ≤ a3 ∧ a3 ≤ 9223372036854775807 := by simpa [Lit.wf, IntKind.min, IntKind.max, IntKind.signed, IntKind.bits] using w3
  have b4 : -9223372036854775808 ≤ a4 ∧ a4 ≤ 9223372036854775807 := by simpa [Lit.wf, IntKind.min, IntKind.max, IntKind.signed, IntKind.bits] using w4
  clear w0 x0 w1 w2 w3 w4
  by_cases h1 : 300 < a1.size
  · have d1 : decide ((300 : Int) < (a1.size : Int)) = true := decide_eq_true (by omega)
    go_enter Try.func6, Try.ntmps6
    go_wp2_with (fail)
    refine (awake_any _).mono ?_
    rintro e w1 ⟨rfl, hb1⟩
    go_wp2
    go_ret
    exact ⟨rfl, ((BoxI.new _ _ _ _).below hb1).1⟩
  have d1 : decide ((300 : Int) < (a1.size : Int)) = false := decide_eq_false (by omega)
  by_cases h2 : 300 < a2.size
  · have d2 : decide ((300 : Int) < (a2.size : Int)) = true := decide_eq_true (by omega)
    go_enter Try.func6, Try.ntmps6
    go_wp2_with (fail)
    refine (awake_any _).mono ?_
    rintro e w1 ⟨rfl, hb1⟩
    go_wp2
    go_ret
    exact ⟨rfl, ((BoxI.new _ _ _ _).below hb1).1⟩
  have d2 : decide ((300 : Int) < (a2.size : Int)) = false := decide_eq_false (by omega)
  have C1 := fun w => Lib.hid (line_any ⟨#[]⟩ a1 [] w (by decide) rfl valid_nil)
  have C2 := fun w => Lib.hid (longest_any ⟨#[]⟩ a2 a3 a4 [] w (by decide) b3 b4 rfl valid_nil)
  have e1 : lookL [] a1.data.toList = none := rfl
  have e2 : bestL [] (winL a2.data.toList a3 a4) = 0 := rfl
  rw [e1] at C1
  rw [e2] at C2
  clear e1 e2
  unfold strV at C1
  simp only [Option.getD_none, Option.isSome_none] at C1
  have HL := fun w a h => Lib.hid (list_any a 1 1 [(a0.data.toList, b0.data.toList)] w h (by omega))
  rw [pick_one] at HL
  cases hok : okR [] (a0.data.toList, b0.data.toList) with
  | false =>
    rw [hok, if_neg (by decide)] at HL
    have e0 : flatL [] = [] := rfl
    rw [e0] at HL
    unfold strV at HL
    clear e0 hok
    go_enter Try.func6, Try.ntmps6
    go_wp2_with (fail)
    refine (awake_any _).mono ?_
    rintro e w1 ⟨rfl, hb1⟩
    have I1 := (BoxI.new _ _ _ _).below hb1
    clear hb1
    go_wp2_with (fail)
    refine (C1 _).out.mono ?_
    rintro e w2 ⟨rfl, hb2⟩
    have I2 := I1.below hb2
    clear hb2 I1
    go_wp2_with (fail)
    refine (C2 _).out.mono ?_
    rintro e w3 ⟨rfl, n3, rfl⟩
    have I3 := I2.below (dr_below _ w2 n3)
    have hc0 := I3.2.1
    have hc1 := I3.2.2.1
    have HI3 := Lib.hid I3
    clear I2 I3
    go_wp2_with (fail)
    refine (HL _ _ (rows_single _ _ _ _)).out.mono ?_
    rintro e w4 ⟨rfl, hb4⟩
    have I4 := (HI3.out.alloc _).below hb4
    clear hb4 HI3
    go_wp2
    go_ret
    exact ⟨rfl, I4.1⟩
  | true =>
    rw [hok, if_pos rfl] at HL
    obtain ⟨g1, g2, g3, g4, g5⟩ := okR_parts hok
    have hg := (takeR_valid (x := (a0.data.toList, b0.data.toList)) valid_nil small_nil).1
    unfold takeR at hg
    rw [hok, if_pos rfl] at hg
    have hv : Valid [(a0.data.toList, b0.data.toList)] := hg
    have hp : 0 < a0.data.toList.length := (hv.1 _ (List.mem_singleton.2 rfl)).pos
    obtain ⟨t, ht⟩ : ∃ t : ByteArray, t = ⟨(flatL [(a0.data.toList, b0.data.toList)]).toArray⟩ := ⟨_, rfl⟩
    have htl : t.data.toList = flatL [(a0.data.toList, b0.data.toList)] := by rw [ht]
    have hts : t.size ≤ 1099511627776 := by
      rw [Lib.size_eq, htl, flatL_one, lineL_len]
      simp only at g2 g3 ⊢
      omega
    have hne : ¬ t.toList = [] := by
      rw [ByteArray.toList_eq, htl]
      exact flatL_pos _ (by simp)
    have hne' : t.toList.isEmpty = false := by simpa using hne
    unfold strV at HL
    rw [← ht] at HL
    have C3 := fun w => Lib.hid (line_any t a1 _ w hts htl hv)
    have hab : (a0 ++ a2).data.toList = a0.data.toList ++ a2.data.toList := by rw [ByteArray.data_append, Array.toList_append]
    have C4 := fun w => Lib.hid (longest_any t (a0 ++ a2) 0 (a0.size : Int) _ w hts ⟨by omega, by omega⟩ ⟨by omega, by rw [Lib.size_eq]; simp only at g2; omega⟩ htl hv)
    have e3 : bestL [(a0.data.toList, b0.data.toList)] (winL (a0 ++ a2).data.toList 0 (a0.size : Int)) = a0.size := by
      rw [hab, Lib.size_eq]
      exact best_one _ _ _ hp
    rw [e3] at C4
    rw [look_one] at C3
    unfold strV at C3
    have z0 : a0.size ≤ 40 := by rw [Lib.size_eq]; exact g2
    have s1 : ¬ 9223372036854775807 < a0.size + a2.size := by omega
    clear hok g1 g2 g3 g4 g5 hg hv hp ht htl hts e3 hab
    by_cases hk : a1 = a0
    · subst hk
      rw [if_pos rfl] at C3
      have e5 : (⟨b0.data.toList.toArray⟩ : ByteArray) = b0 := str_ext rfl
      simp only [Option.getD_some, Option.isSome_some, e5] at C3
      clear e5
      go_enter Try.func6, Try.ntmps6
      go_wp2_with (fail)
      refine (awake_any _).mono ?_
      rintro e w1 ⟨rfl, hb1⟩
      have I1 := (BoxI.new _ _ _ _).below hb1
      clear hb1
      go_wp2_with (fail)
      refine (C1 _).out.mono ?_
      rintro e w2 ⟨rfl, hb2⟩
      have I2 := I1.below hb2
      clear hb2 I1
      go_wp2_with (fail)
      refine (C2 _).out.mono ?_
      rintro e w3 ⟨rfl, n3, rfl⟩
      have I3 := I2.below (dr_below _ w2 n3)
      have hc0 := I3.2.1
      have hc1 := I3.2.2.1
      have HI3 := Lib.hid I3
      clear I2 I3
      go_wp2_with (fail)
      refine (HL _ _ (rows_single _ _ _ _)).out.mono ?_
      rintro e w4 ⟨rfl, hb4⟩
      have I4 := (HI3.out.alloc _).below hb4
      clear hb4 HI3
      have hc40 := I4.2.1
      have hc41 := I4.2.2.1
      have HI4 := Lib.hid I4
      clear I4 hc0 hc1
      go_wp2_with (fail)
      refine (C3 _).out.mono ?_
      rintro e w5 ⟨rfl, hb5⟩
      have I5 := HI4.out.below hb5
      have hc50 := I5.2.1
      have hc51 := I5.2.2.1
      have HI5 := Lib.hid I5
      clear HI4 I5 hb5 hc40 hc41
      go_wp2
      go_quiet ((go_at_call 12; refine (C4 _).out.mono ?_; rintro e w'' ⟨rfl, n, rfl⟩; first | exact ⟨rfl, _, World.drewN_drewN ..⟩ | exact ⟨rfl, _, rfl⟩))
      go_wp2
      go_ret
      exact ⟨rfl, HI5.out.1.trans (dr_below _ w5 nq)⟩
    · have hk' : ¬ a1.data.toList = a0.data.toList := fun e => hk (str_ext e)
      rw [if_neg hk'] at C3
      have b1 : (a1.toList == a0.toList) = false := by rw [str_beq]; exact decide_eq_false hk'
      simp only [Option.getD_none, Option.isSome_none] at C3
      clear hk hk'
      go_enter Try.func6, Try.ntmps6
      go_wp2_with (fail)
      refine (awake_any _).mono ?_
      rintro e w1 ⟨rfl, hb1⟩
      have I1 := (BoxI.new _ _ _ _).below hb1
      clear hb1
      go_wp2_with (fail)
      refine (C1 _).out.mono ?_
      rintro e w2 ⟨rfl, hb2⟩
      have I2 := I1.below hb2
      clear hb2 I1
      go_wp2_with (fail)
      refine (C2 _).out.mono ?_
      rintro e w3 ⟨rfl, n3, rfl⟩
      have I3 := I2.below (dr_below _ w2 n3)
      have hc0 := I3.2.1
      have hc1 := I3.2.2.1
      have HI3 := Lib.hid I3
      clear I2 I3
      go_wp2_with (fail)
      refine (HL _ _ (rows_single _ _ _ _)).out.mono ?_
      rintro e w4 ⟨rfl, hb4⟩
      have I4 := (HI3.out.alloc _).below hb4
      clear hb4 HI3
      have hc40 := I4.2.1
      have hc41 := I4.2.2.1
      have HI4 := Lib.hid I4
      clear I4 hc0 hc1
      go_wp2_with (fail)
      refine (C3 _).out.mono ?_
      rintro e w5 ⟨rfl, hb5⟩
      have I5 := HI4.out.below hb5
      have hc50 := I5.2.1
      have hc51 := I5.2.2.1
      have HI5 := Lib.hid I5
      clear HI4 I5 hb5 hc40 hc41
      go_wp2
      go_quiet ((go_at_call 12; refine (C4 _).out.mono ?_; rintro e w'' ⟨rfl, n, rfl⟩; first | exact ⟨rfl, _, World.drewN_drewN ..⟩ | exact ⟨rfl, _, rfl⟩))
      go_wp2
      go_ret
      exact ⟨rfl, HI5.out.1.trans (dr_below _ w5 nq)⟩

set_option maxRecDepth 100000 in
theorem lifted (os : Os) (started : os.Started) (H : Type) (enc : TypeId × Value → H) :
    ReturnsInHanded {} Try.checked os 6 .any (Rows.searchNoneSpec.pre6 enc Try.prog Try.f6 Rows.searchNoneRow.domain false) (Rows.searchNoneSpec.post enc Try.prog Try.f6 false true false false) := by
  refine returnsInHanded_of_change (C := Try.checked) own started (by kernel_rfl) Try.func6
    (ChangeSpec.witness6 (enc := enc) (C := Try.checked) false ⟨#[], #[.agg #[.string ⟨#[]⟩, .string ⟨#[]⟩], .string ⟨#[]⟩, .string ⟨#[]⟩, .int .i64 0, .int .i64 0], []⟩ 8 (by kernel_rfl) (by kernel_rfl) (by kernel_rfl) (by kernel_rfl)) ?_
  intro W base args ds gs before hval0 hW hcnd _
  have hval : ∀ (j : Nat) t v, Try.f6.params[j]? = some t → args[j]? = some v → Value.okWide Try.prog W .any base t v := hval0
  have hW' := hW
  obtain ⟨p, q, hA0, hV, rfl, hfz, hnd⟩ := hW
  have hA : DataW.TrodAll enc Try.prog W 0 (fun _ => true) true Try.f6.params.toList args.toList ds p := hA0
  rw [Try.params6] at hA hval
  obtain ⟨v0, vs0, d0, ds0, p0, q0, hargs, rfl, rfl, h0, r0⟩ := trodAll_cons hA
  obtain ⟨v1, vs1, d1, ds1, p1, q1, rfl, rfl, rfl, h1, r1⟩ := trodAll_cons r0
  obtain ⟨v2, vs2, d2, ds2, p2, q2, rfl, rfl, rfl, h2, r2⟩ := trodAll_cons r1
  obtain ⟨v3, vs3, d3, ds3, p3, q3, rfl, rfl, rfl, h3, r3⟩ := trodAll_cons r2
  obtain ⟨v4, vs4, d4, ds4, p4, q4, rfl, rfl, rfl, h4, r4⟩ := trodAll_cons r3
  obtain ⟨rfl, rfl, rfl⟩ := trodAll_nil r4
  obtain rfl : args = #[v0, v1, v2, v3, v4] := by cases args; simp_all
  obtain ⟨rfl, rfl⟩ := trodVars_none hV
  obtain ⟨c0, c1, y0, y1, n0, rfl, rfl, rfl, hy0, hy1⟩ := Go.Joins.open_agg2 Try.underlying31 (by kernel_rfl) (by kernel_rfl) (hval 0 31 v0 rfl rfl) h0
  obtain ⟨a0, e0, rfl, w0⟩ := DataW.trod_string Try.underlying9 hy0
  obtain ⟨b0, e1, rfl, x0⟩ := DataW.trod_string Try.underlying9 hy1
  rw [List.cons.injEq] at e0 e1
  obtain ⟨rfl, _⟩ := e0
  obtain ⟨rfl, _⟩ := e1
  obtain ⟨a1, rfl, rfl, rfl, w1⟩ := open_string Try.underlying9 (hval 1 9 v1 rfl rfl) h1
  obtain ⟨a2, rfl, rfl, rfl, w2⟩ := open_string Try.underlying9 (hval 2 9 v2 rfl rfl) h2
  obtain ⟨a3, rfl, rfl, rfl, w3⟩ := open_int Try.underlying3 (hval 3 3 v3 rfl rfl) h3
  obtain ⟨a4, rfl, rfl, rfl, w4⟩ := open_int Try.underlying3 (hval 4 3 v4 rfl rfl) h4
  clear hA0 hval0
  refine (walk a0 b0 a1 a2 a3 a4 W w0 x0 w1 w2 w3 w4).mono fun e W' ⟨he, bel⟩ => ?_
  subst he
  exact ⟨_, rfl, _, _, _, [], _, [], hW', trodAll_mk1 (shut_bool Try.underlying4 _), (trodAll_cons_mk (Go.Joins.shut_agg2 (y0 := (.lit (.string a0.data.toList), [])) (y1 := (.lit (.string b0.data.toList), [])) Try.underlying31 (by kernel_rfl) (by kernel_rfl) (shut_string Try.underlying9 w0) (shut_string Try.underlying9 x0)) (trodAll_cons_mk (shut_string Try.underlying9 w1) (trodAll_cons_mk (shut_string Try.underlying9 w2) (trodAll_cons_mk (shut_int Try.underlying3 w3) (trodAll_cons_mk (shut_int Try.underlying3 w4) trodAll_mk0))))), rfl, bel.frame _, fun h => by cases h⟩

theorem over : Rows.searchNoneRow.holds Try.pinned (OpenSpec.ofChange Rows.searchNoneSpec) :=
  OpenClaim.holds_of_wide 6 Try.f6 rfl rfl rfl rfl rfl rfl rfl ⟨rfl, rfl, rfl, rfl, rfl⟩ rfl rfl rfl rfl rfl (by kernel_rfl) Try.func6 (by kernel_rfl)
    (of_decide_eq_true (by kernel_rfl)) (by unfold Func.isWrapper; first | (rw [if_pos (by decide +kernel)]; kernel_rfl) | (rw [if_neg (by decide +kernel)]; exact ⟨rfl, rfl⟩))
    (fun os started H enc _ => lifted os started H enc)

/-- the statement -/
theorem proved : Rows.SearchNoneSaid := over
end Go.Proofs.Ytanlneaolnkojaa.searchNone
