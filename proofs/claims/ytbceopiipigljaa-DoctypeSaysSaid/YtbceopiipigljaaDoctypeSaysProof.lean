/-
  The law DoctypeSays of flail/flaillaw11 answers true for every input, and changes nothing that was there. No condition.
-/
import Derived.Test.YtbceopiipigljaaRows
import Derived.Test.YtbceopiipigljaaDtAwake
import Derived.Test.YtbceopiipigljaaDtAt
import Derived.WalkKit
import Derived.ProofKit
import Derived.ChangeOld
import Derived.Below
import Derived.OpenShut
import Derived.ShutString
namespace Go.Proofs.Ytbceopiipigljaa.doctypeSays
open Go.ChangeShapes Go.WideShapes Go.ChangeAt Go.RowKit
open Go.ChangeMaps (open_string shut_string)
set_option linter.unusedVariables false      -- a walk need not use every 'w<i>' (that an integer argument fits its kind)

theorem own : ownKnob Try.prog.godebug = none := by kernel_rfl

theorem says (l : Txt) : (parseD l true).q = true ∧ (parseD l false).q = true ∨ (parseD l true).q = false := by
  obtain ⟨-, h⟩ := parse_ended l
  cases hq : (parseD l true).q
  · exact .inr rfl
  · exact .inl ⟨rfl, h hq⟩
set_option maxRecDepth 100000 in
set_option maxHeartbeats 8000000 in
theorem walk (a0 : ByteArray) (w0 : a0.size ≤ maxLen) (w : World) :
    Calls Try.prog 5 #[.string a0] w fun e w' => e = .returned (.bool true) ∧ Below w.heap.size w w' := by
  clear w0
  have HW := Lib.hid (dtLaid_here w)
  skip
  by_cases hlen : 300 < a0.size
  · have hc : decide ((300 : Int) < (a0.size : Int)) = true := decide_eq_true (by omega)
    clear hlen
    go_enter Try.func5, Try.ntmps5
    go_wp2_with (fail)
    refine (dtAwake_any w HW.out).mono ?_
    rintro e w1 ⟨rfl, c1⟩
    go_wp2
    go_ret
    exact ⟨rfl, c1⟩
  have hs0 : a0.size ≤ 300 := by omega
  have d0 : decide ((300 : Int) < (a0.size : Int)) = false := decide_eq_false (by omega)
  clear hlen
  have HR1 := fun w h => Lib.hid (dctParse_any a0 true w (by omega) h)
  have HR2 := fun w h => Lib.hid (dctParse_any a0 false w (by omega) h)
  have h1 := says a0.data.toList
  have h2 := (parse_ended a0.data.toList).1
  have h3 := parse_whole a0.data.toList true
  obtain ⟨D, hD⟩ : ∃ D, parseD a0.data.toList true = D := ⟨_, rfl⟩
  obtain ⟨E, hE⟩ : ∃ D, parseD a0.data.toList false = D := ⟨_, rfl⟩
  rw [hD] at HR1 h1 h2 h3
  rw [hE] at HR2 h1 h2
  obtain ⟨nm, pu, sy, b1, b2, b3, b4⟩ := D
  obtain ⟨nm', pu', sy', b1', b2', b3', b4'⟩ := E
  simp only [DocP.mk.injEq, and_true] at h2
  obtain ⟨rfl, rfl, rfl, rfl, rfl, rfl⟩ := h2
  unfold docV at HR1 HR2
  simp only at h1
  -- what is there: nothing but quirks, or a name
  have hcase : (nm = [] ∧ pu = [] ∧ sy = [] ∧ b1 = false ∧ b2 = false ∧ b3 = false ∧ b4 = true) ∨ (nm ≠ [] ∧ b1 = true ∧ (b2 = false → pu = []) ∧ (b3 = false → sy = [])) := by
    rcases h3 with h | ⟨n, hn, hw⟩
    · simp only [DocP.mk.injEq] at h
      obtain ⟨e1, e2, e3, e4, e5, e6, e7⟩ := h
      exact .inl ⟨e1, e2, e3, e4, e5, e6, e7⟩
    · obtain ⟨⟨e1, e2⟩, e3, e4⟩ := hw
      simp only at e1 e2 e3 e4
      subst e1
      exact .inr ⟨hn, e2, e3, e4⟩
  have hX := fun x : Txt => str_beq ⟨x.toArray⟩ ⟨#[]⟩
  have hne : ∀ x : Txt, x ≠ [] → ((⟨x.toArray⟩ : ByteArray).toList == (⟨#[]⟩ : ByteArray).toList) = false := fun x hx => by
    rw [hX, List.toList_toArray]; exact decide_eq_false hx
  clear hD hE h3 hX
  have hq : (b4 = true ∧ b4' = true) ∨ (b4 = false ∧ b4' = true) ∨ (b4 = false ∧ b4' = false) := by
    rcases h1 with ⟨e1, e2⟩ | e1
    · exact .inl ⟨e1, e2⟩
    · cases b4'
      · exact .inr (.inr ⟨e1, rfl⟩)
      · exact .inr (.inl ⟨e1, rfl⟩)
  clear h1
  rcases hcase with ⟨rfl, rfl, rfl, rfl, rfl, rfl, rfl⟩ | ⟨hn, rfl, hp, hs⟩
  · have e4 : b4' = true := by
      rcases hq with ⟨-, e⟩ | ⟨e, -⟩ | ⟨e, -⟩
      · exact e
      · cases e
      · cases e
    subst e4
    clear hq hne
    go_enter Try.func5, Try.ntmps5
    go_wp2_with (fail)
    refine (dtAwake_any w HW.out).mono ?_
    rintro e w1 ⟨rfl, c1⟩
    go_wp2_with (fail)
    refine (HR1 _ (HW.out.below c1)).out.mono ?_
    rintro e w2 ⟨rfl, c2⟩
    have C2 := Lib.hid (c1.trans (c2.mono c1.size))
    clear c2
    go_wp2_with (fail)
    have B3 := Lib.hid (below_new C2.out (.cells (docCells ⟨[], [], [], false, false, false, true⟩) 31))
    refine (HR2 _ (HW.out.below B3.out)).out.mono ?_
    rintro e w3 ⟨rfl, c3⟩
    have T2 := (show DocAt 31 (w2.alloc (.cells (docCells ⟨[], [], [], false, false, false, true⟩) 31)) w2.heap.size ⟨[], [], [], false, false, false, true⟩ from heap_alloc_new w2 _).below c3
    have B4 := Lib.hid (B3.out.trans (c3.mono B3.out.size))
    obtain ⟨x0, x1, x2, x3, x4, x5, x6⟩ := docAt_cells (T2.below ((Below.refl _ w3).alloc (Nat.le_refl _) (.cells (docCells ⟨[], [], [], false, false, false, true⟩) 31)))
    simp only [docCells] at x0 x1 x2 x3 x4 x5 x6
    clear T2 c3
    go_wp2
    go_ret
    exact ⟨ret_bool (by simp), below_new B4.out _⟩
  · have hnn := hne nm hn
    clear hne
    obtain ⟨N, hN⟩ : ∃ N : ByteArray, (⟨nm.toArray⟩ : ByteArray) = N := ⟨_, rfl⟩
    rw [hN] at hnn
    have hN2 : nm = N.data.toList := by rw [← hN, List.toList_toArray]
    subst hN2
    have hn2 : N.toList.isEmpty = false := by
      rw [ByteArray.toList_eq]
      cases h : N.data.toList with
      | nil => exact (hn h).elim
      | cons c t => rfl
    have hn3 : ({ data := N.data } : ByteArray).toList.isEmpty = false := hn2
    have hn4 : ¬ N.toList = [] := fun e => by rw [e] at hn2; cases hn2
    have hn5 : ¬ ({ data := N.data } : ByteArray).toList = [] := hn4
    clear hn hN
    have hpub : (b2 = false ∧ pu = []) ∨ b2 = true := by
      cases b2
      · exact .inl ⟨rfl, hp rfl⟩
      · exact .inr rfl
    have hsys : (b3 = false ∧ sy = []) ∨ b3 = true := by
      cases b3
      · exact .inl ⟨rfl, hs rfl⟩
      · exact .inr rfl
    clear hp hs
    obtain ⟨D, hD⟩ : ∃ D : DocP, D = ⟨N.data.toList, pu, sy, true, b2, b3, b4⟩ := ⟨_, rfl⟩
    obtain ⟨E, hE⟩ : ∃ D : DocP, D = ⟨N.data.toList, pu, sy, true, b2, b3, b4'⟩ := ⟨_, rfl⟩
    rcases hq with ⟨rfl, rfl⟩ | ⟨rfl, rfl⟩ | ⟨rfl, rfl⟩
    all_goals
      rcases hpub with ⟨rfl, rfl⟩ | rfl
    all_goals
      rcases hsys with ⟨rfl, rfl⟩ | rfl
    all_goals
      have HD := Lib.hid hD
      have HE := Lib.hid hE
      clear hD hE
      go_enter Try.func5, Try.ntmps5
      go_wp2_with (fail)
      refine (dtAwake_any w HW.out).mono ?_
      rintro e w1 ⟨rfl, c1⟩
      go_wp2_with (fail)
      refine (HR1 _ (HW.out.below c1)).out.mono ?_
      rintro e w2 ⟨rfl, c2⟩
      have C2 := Lib.hid (c1.trans (c2.mono c1.size))
      clear c2
      go_wp2_with (fail)
      have b3' := below_new C2.out (.cells (docCells D) 31)
      rw [HD.out] at b3'
      have B3 := Lib.hid b3'
      clear b3'
      refine (HR2 _ (HW.out.below B3.out)).out.mono ?_
      rintro e w3 ⟨rfl, c3⟩
      have B4 := Lib.hid (B3.out.trans (c3.mono B3.out.size))
      have t2 := show DocAt 31 (w2.alloc (.cells (docCells D) 31)) w2.heap.size D from heap_alloc_new w2 _
      rw [HD.out] at t2
      have t3 := docAt_cells ((t2.below c3).below ((Below.refl _ w3).alloc (Nat.le_refl _) (.cells (docCells E) 31)))
      rw [HE.out] at t3
      have t4 := docAt_cells ((t2.below c3).below ((Below.refl _ w3).alloc (Nat.le_refl _) (.cells (docCells D) 31)))
      rw [HD.out] at t4
      obtain ⟨x0, x1, x2, x3, x4, x5, x6⟩ := t3
      simp only [docCells] at x0 x1 x2 x3 x4 x5 x6
      obtain ⟨z0, z1, z2, z3, z4, z5, z6⟩ := t4
      simp only [docCells] at z0 z1 z2 z3 z4 z5 z6
      clear t2 c3
      go_wp2
      go_ret
      exact ⟨ret_bool (by simp), below_new B4.out _⟩
  -- go_wp2
  -- go_ret
  -- exact ⟨rfl, by repeat (first | exact Grown.refl _ | apply Grown.drew | apply Grown.alloc)⟩

set_option maxRecDepth 100000 in
theorem lifted (os : Os) (started : os.Started) (H : Type) (enc : TypeId × Value → H) :
    ReturnsInHanded {} Try.checked os 5 .any (Rows.doctypeSaysSpec.pre6 enc Try.prog Try.f5 Rows.doctypeSaysRow.domain false) (Rows.doctypeSaysSpec.post enc Try.prog Try.f5 false true false false) := by
  refine returnsInHanded_of_change (C := Try.checked) own started (by kernel_rfl) Try.func5
    (ChangeSpec.witness6 (enc := enc) (C := Try.checked) false ⟨#[], #[.string ByteArray.empty], []⟩ 8 (by kernel_rfl) (by kernel_rfl) (by kernel_rfl) (by kernel_rfl)) ?_
  intro W base args ds gs before hval0 hW hcnd _
  have hval : ∀ (j : Nat) t v, Try.f5.params[j]? = some t → args[j]? = some v → Value.okWide Try.prog W .any base t v := hval0
  have hW' := hW
  obtain ⟨p, q, hA0, hV, rfl, hfz, hnd⟩ := hW
  have hA : DataW.TrodAll enc Try.prog W 0 (fun _ => true) true Try.f5.params.toList args.toList ds p := hA0
  rw [Try.params5] at hA hval
  obtain ⟨v0, vs0, d0, ds0, p0, q0, hargs, rfl, rfl, h0, r0⟩ := trodAll_cons hA
  obtain ⟨rfl, rfl, rfl⟩ := trodAll_nil r0
  obtain rfl : args = #[v0] := by cases args; simp_all
  obtain ⟨rfl, rfl⟩ := trodVars_none hV
  obtain ⟨a0, rfl, rfl, rfl, w0⟩ := open_string Try.underlying9 (hval 0 9 v0 rfl rfl) h0
  clear hA0 hval0
  refine (walk a0 w0 W).mono fun e W' ⟨he, bel⟩ => ?_
  subst he
  exact ⟨_, rfl, _, _, _, [], _, [], hW', trodAll_mk1 (shut_bool Try.underlying4 _), (trodAll_cons_mk (shut_string Try.underlying9 w0) trodAll_mk0), rfl, bel.frame _, fun h => by cases h⟩

theorem over : Rows.doctypeSaysRow.holds Try.pinned (OpenSpec.ofChange Rows.doctypeSaysSpec) :=
  OpenClaim.holds_of_wide 5 Try.f5 rfl rfl rfl rfl rfl rfl rfl ⟨rfl, rfl, rfl, rfl, rfl⟩ rfl rfl rfl rfl rfl (by kernel_rfl) Try.func5 (by kernel_rfl)
    (of_decide_eq_true (by kernel_rfl)) (by unfold Func.isWrapper; first | (rw [if_pos (by decide +kernel)]; kernel_rfl) | (rw [if_neg (by decide +kernel)]; exact ⟨rfl, rfl⟩))
    (fun os started H enc _ => lifted os started H enc)

/-- ████ THE STATEMENT ████ -/
theorem proved : Rows.DoctypeSaysSaid :=
  over
end Go.Proofs.Ytbceopiipigljaa.doctypeSays
