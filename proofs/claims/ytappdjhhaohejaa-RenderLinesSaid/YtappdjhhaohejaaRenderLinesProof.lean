/-
  The law RenderLines of flail/flaillaw19 answers true for every input, and changes nothing that was there. No condition.
-/
import Derived.Test.YtappdjhhaohejaaRows
import Derived.Test.YtappdjhhaohejaaRenAwake
import Derived.Test.YtappdjhhaohejaaKndRef
import Derived.WalkKit
import Derived.ProofKit
import Derived.ChangeOld
import Derived.Below
import Derived.OpenShut
import Derived.ShutString
namespace Go.Proofs.Ytappdjhhaohejaa.renderLines
open Go.ChangeShapes Go.WideShapes Go.ChangeAt Go.RowKit
open Go.ChangeMaps (open_string shut_string)
set_option linter.unusedVariables false      -- a walk need not use every 'w<i>' (that an integer argument fits its kind)

theorem own : ownKnob Try.prog.godebug = none := by kernel_rfl

theorem want_is (nm : Txt) (closes : Bool) : lineWant nm closes = (if hidN nm = true ∧ closes = false then [97] else if nm = brL ∨ linN nm = 1 then [97, 10, 98] else if linN nm = 2 then [97, 10, 10, 98] else [97, 32, 98]) := rfl
theorem hid_none (nm : Txt) (h : hidN nm = true) : nm ≠ brL ∧ linN nm = 0 := by
  refine ⟨fun e => ?_, (hid_apart nm h).2.2⟩
  rw [e] at h
  exact absurd h (by decide)
set_option maxRecDepth 100000 in
set_option maxHeartbeats 8000000 in
theorem walk (a0 : Int) (a1 : Bool) (w0 : (Lit.int .u16 a0).wf = true) (w : World) :
    Calls Try.prog 7 #[.int .u16 a0, .bool a1] w fun e w' => e = .returned (.bool true) ∧ Below w.heap.size w w' := by
  have hb0 : 0 ≤ a0 ∧ a0 ≤ 65535 := by simpa [Lit.wf, IntKind.min, IntKind.max, IntKind.signed, IntKind.bits] using w0
  obtain ⟨hba0, hba1⟩ := hb0
  have hHT := (ren_here w)
  have HW := Lib.hid hHT
  clear hHT
  skip
  clear w0
  obtain ⟨R, hR⟩ : ∃ R : Nat, a0 % 78 = (R : Int) := ⟨(a0 % 78).toNat, by omega⟩
  have hR2 : R < 78 := by omega
  have hRT : R < nmL17.length := hR2
  have hRC := nm17_cell R hRT
  have htold := ren_lines _ (List.getElem_mem hRT) a1
  obtain ⟨nR, hnR⟩ : ∃ n, nmL17[R] = n := ⟨_, rfl⟩
  rw [hnR] at hRC htold
  obtain ⟨NR, hNR⟩ : ∃ N : ByteArray, (⟨nR.toArray⟩ : ByteArray) = N := ⟨_, rfl⟩
  have hNR2 : NR.data.toList = nR := by rw [← hNR, List.toList_toArray]
  rw [hNR] at hRC
  have CR := Lib.hid hRC
  have HNR := Lib.hid hNR
  have Ph := fun w h => Lib.hid (kHides_any NR w h)
  have Pl := fun w h => Lib.hid (kLines_any NR w h)
  rw [hNR2] at Ph Pl
  have hz := hid_none nR
  have hlr := lin_range nR
  rw [want_is] at htold
  obtain ⟨hd, hhd⟩ : ∃ y, hidN nR = y := ⟨_, rfl⟩
  obtain ⟨ln, hln⟩ : ∃ y, linN nR = y := ⟨_, rfl⟩
  rw [hhd] at Ph hz
  rw [hln] at Pl hz hlr
  rw [hhd, hln] at htold
  have hbr : (NR.toList == [98, 114]) = decide (nR = brL) := by
    rw [ByteArray.toList_eq, hNR2]
    exact Bool.eq_iff_iff.2 (by rw [beq_iff_eq, decide_eq_true_iff]; exact Iff.rfl)
  have HNM := fun w => Lib.hid (refNames17_any w)
  obtain ⟨Z, hZ⟩ : ∃ Z : ByteArray, (⟨(renL (lineToks nR a1)).toArray⟩ : ByteArray) = Z := ⟨_, rfl⟩
  have CT := fun w' len cap (hT : IsToks w' (some ⟨len, 0, none⟩) 3 cap (lineToks nR a1)) h => Lib.hid (ren_any (some ⟨len, 0, none⟩) 3 cap (lineToks nR a1) w' hT.bare (by decide) (by intro t ht; simp [lineToks] at ht; rcases ht with rfl | rfl | rfl <;> simp) h)
  rw [hZ] at CT
  have HLT := fun w => Lib.hid (isToks_put w (lineToks nR a1) (by intro t ht; simp [lineToks] at ht; rcases ht with rfl | rfl | rfl <;> rfl) 29 _ rfl (by simp [lineToks]))
  have HCE : Hid ((cellsT (bareQ (lineToks nR a1))).toArray = #[.int .i64 0, .string ⟨#[]⟩, .string ⟨#[97, 32]⟩, .slice none 0 0, .bool false, .int .i64 (if a1 = true then 2 else 1), .string NR, .string ⟨#[]⟩, .slice none 0 0, .bool false, .int .i64 0, .string ⟨#[]⟩, .string ⟨#[98]⟩, .slice none 0 0, .bool false]) := Lib.hid (by rw [← hNR]; rfl)
  have HZ : Hid (Z = ⟨(if hd = true ∧ a1 = false then [97] else if nR = brL ∨ ln = 1 then [97, 10, 98] else if ln = 2 then [97, 10, 10, 98] else [97, 32, 98] : Txt).toArray⟩) := Lib.hid (by rw [← hZ, htold])
  clear hRC hnR hNR hNR2 hRT hhd hln htold hZ
  go_enter Try.func7, Try.ntmps7
  go_wp2_with (fail)
  refine (renAwake_any w HW.out).mono ?_
  rintro e w1 ⟨rfl, c1⟩
  have B1 := Lib.hid c1
  clear c1
  go_wp2_with (fail)
  refine (HNM _).out.mono ?_
  rintro e w2 ⟨rfl, hh, c2⟩
  have B2 := Lib.hid (B1.out.trans (c2.mono B1.out.size))
  clear c2
  have hcR : w2.cell? ⟨w1.heap.size, R, none⟩ = some (.string NR) := by rw [cell_of_row _ _ _ _ _ _ hh]; exact CR.out
  have L3 := Lib.hid (show IsToks (w2.alloc (.cells #[.int .i64 0, .string ⟨#[]⟩, .string ⟨#[97, 32]⟩, .slice none 0 0, .bool false, .int .i64 (if a1 = true then 2 else 1), .string NR, .string ⟨#[]⟩, .slice none 0 0, .bool false, .int .i64 0, .string ⟨#[]⟩, .string ⟨#[98]⟩, .slice none 0 0, .bool false] 29)) (some ⟨w2.heap.size, 0, none⟩) 3 3 (lineToks nR a1) by
    have := (HLT w2).out
    rw [HCE.out] at this
    exact this)
  have B3 := Lib.hid (B2.out.alloc B2.out.size (.cells #[.int .i64 0, .string ⟨#[]⟩, .string ⟨#[97, 32]⟩, .slice none 0 0, .bool false, .int .i64 (if a1 = true then 2 else 1), .string NR, .string ⟨#[]⟩, .slice none 0 0, .bool false, .int .i64 0, .string ⟨#[]⟩, .string ⟨#[98]⟩, .slice none 0 0, .bool false] 29))
  clear hh HLT HNM
  have CT3 := CT _ _ _ L3.out (HW.out.below B3.out)
  clear CT
  cases a1
  · simp only [Bool.false_eq_true, if_false] at CT3 B3
    go_wp2_with (fail)
    refine CT3.out.mono ?_
    rintro e w3 ⟨rfl, c3⟩
    have B4 := Lib.hid (B3.out.trans (c3.mono B3.out.size))
    clear c3 CT3 hcR
    go_wp2_with (fail)
    refine (Ph _ (HW.out.below B4.out)).out.mono ?_
    rintro e w4 ⟨rfl, c4⟩
    have B5 := Lib.hid (B4.out.trans (c4.mono B4.out.size))
    clear c4 Ph
    cases hd
    · by_cases hb : nR = brL
      · have hZ2 : Z = ⟨#[97, 10, 98]⟩ := by rw [HZ.out, if_neg (by simp), if_pos (.inl hb)]
        subst hZ2
        rw [decide_eq_true hb] at hbr
        clear hb HZ hz
        go_wp2
        go_ret
        exact ⟨ret_bool (by simp), B5.out⟩
      · rw [decide_eq_false hb] at hbr
        go_wp2_with (fail)
        refine (Pl _ (HW.out.below B5.out)).out.mono ?_
        rintro e w5 ⟨rfl, c5⟩
        have B6 := Lib.hid (B5.out.trans (c5.mono B5.out.size))
        clear c5
        by_cases h1 : ln = 1
        · subst h1
          have hZ2 : Z = ⟨#[97, 10, 98]⟩ := by rw [HZ.out, if_neg (by simp), if_pos (.inr rfl)]
          subst hZ2
          clear hb HZ hz Pl
          go_wp2
          go_ret
          exact ⟨ret_bool (by simp), B6.out⟩
        · have e1 : (ln == 1) = false := beq_eq_false_iff_ne.2 h1
          go_wp2_with (fail)
          refine (Pl _ (HW.out.below B6.out)).out.mono ?_
          rintro e w6 ⟨rfl, c6⟩
          have B7 := Lib.hid (B6.out.trans (c6.mono B6.out.size))
          clear c6 Pl
          by_cases h2 : ln = 2
          · subst h2
            have hZ2 : Z = ⟨#[97, 10, 10, 98]⟩ := by rw [HZ.out, if_neg (by simp), if_neg (by rintro (e | e); exact hb e; exact absurd e (by decide)), if_pos rfl]
            subst hZ2
            clear hb HZ hz h1 e1
            go_wp2
            go_ret
            exact ⟨ret_bool (by simp), B7.out⟩
          · have e2 : (ln == 2) = false := beq_eq_false_iff_ne.2 h2
            have hZ2 : Z = ⟨#[97, 32, 98]⟩ := by rw [HZ.out, if_neg (by simp), if_neg (fun e => e.elim hb h1), if_neg h2]
            subst hZ2
            clear hb HZ hz h1 h2
            go_wp2
            go_ret
            exact ⟨ret_bool (by simp), B7.out⟩
    · have hZ2 : Z = ⟨#[97]⟩ := by rw [HZ.out, if_pos (by simp)]
      subst hZ2
      clear HZ hz
      go_wp2
      go_ret
      exact ⟨ret_bool (by simp), B5.out⟩
  · simp only [if_true] at CT3 B3
    go_wp2_with (fail)
    refine CT3.out.mono ?_
    rintro e w3 ⟨rfl, c3⟩
    have B4 := Lib.hid (B3.out.trans (c3.mono B3.out.size))
    clear c3 CT3 hcR
    go_wp2_with (fail)
    refine (Ph _ (HW.out.below B4.out)).out.mono ?_
    rintro e w4 ⟨rfl, c4⟩
    have B5 := Lib.hid (B4.out.trans (c4.mono B4.out.size))
    clear c4 Ph
    have hhdw : Hid (Z = ⟨(if nR = brL ∨ ln = 1 then [97, 10, 98] else if ln = 2 then [97, 10, 10, 98] else [97, 32, 98] : Txt).toArray⟩) := Lib.hid (by rw [HZ.out, if_neg (by simp)])
    clear HZ hz
    cases hd
    all_goals
      by_cases hb : nR = brL
      · have hZ2 : Z = ⟨#[97, 10, 98]⟩ := by rw [hhdw.out, if_pos (.inl hb)]
        subst hZ2
        rw [decide_eq_true hb] at hbr
        clear hb hhdw
        go_wp2
        go_ret
        exact ⟨ret_bool (by simp), B5.out⟩
      · rw [decide_eq_false hb] at hbr
        go_wp2_with (fail)
        refine (Pl _ (HW.out.below B5.out)).out.mono ?_
        rintro e w5 ⟨rfl, c5⟩
        have B6 := Lib.hid (B5.out.trans (c5.mono B5.out.size))
        clear c5
        by_cases h1 : ln = 1
        · subst h1
          have hZ2 : Z = ⟨#[97, 10, 98]⟩ := by rw [hhdw.out, if_pos (.inr rfl)]
          subst hZ2
          clear hb hhdw Pl
          go_wp2
          go_ret
          exact ⟨ret_bool (by simp), B6.out⟩
        · have e1 : (ln == 1) = false := beq_eq_false_iff_ne.2 h1
          go_wp2_with (fail)
          refine (Pl _ (HW.out.below B6.out)).out.mono ?_
          rintro e w6 ⟨rfl, c6⟩
          have B7 := Lib.hid (B6.out.trans (c6.mono B6.out.size))
          clear c6 Pl
          by_cases h2 : ln = 2
          · subst h2
            have hZ2 : Z = ⟨#[97, 10, 10, 98]⟩ := by rw [hhdw.out, if_neg (by rintro (e | e); exact hb e; exact absurd e (by decide)), if_pos rfl]
            subst hZ2
            clear hb hhdw h1 e1
            go_wp2
            go_ret
            exact ⟨ret_bool (by simp), B7.out⟩
          · have e2 : (ln == 2) = false := beq_eq_false_iff_ne.2 h2
            have hZ2 : Z = ⟨#[97, 32, 98]⟩ := by rw [hhdw.out, if_neg (fun e => e.elim hb h1), if_neg h2]
            subst hZ2
            clear hb hhdw h1 h2
            go_wp2
            go_ret
            exact ⟨ret_bool (by simp), B7.out⟩
  -- go_wp2
  -- go_ret
  -- exact ⟨rfl, by repeat (first | exact Grown.refl _ | apply Grown.drew | apply Grown.alloc)⟩

set_option maxRecDepth 100000 in
theorem lifted (os : Os) (started : os.Started) (H : Type) (enc : TypeId × Value → H) :
    ReturnsInHanded {} Try.checked os 7 .any (Rows.renderLinesSpec.pre6 enc Try.prog Try.f7 Rows.renderLinesRow.domain false) (Rows.renderLinesSpec.post enc Try.prog Try.f7 false true false false) := by
  refine returnsInHanded_of_change (C := Try.checked) own started (by kernel_rfl) Try.func7
    (ChangeSpec.witness6 (enc := enc) (C := Try.checked) false ⟨#[], #[.int .u16 0, .bool false], []⟩ 8 (by kernel_rfl) (by kernel_rfl) (by kernel_rfl) (by kernel_rfl)) ?_
  intro W base args ds gs before hval0 hW hcnd _
  have hval : ∀ (j : Nat) t v, Try.f7.params[j]? = some t → args[j]? = some v → Value.okWide Try.prog W .any base t v := hval0
  have hW' := hW
  obtain ⟨p, q, hA0, hV, rfl, hfz, hnd⟩ := hW
  have hA : DataW.TrodAll enc Try.prog W 0 (fun _ => true) true Try.f7.params.toList args.toList ds p := hA0
  rw [Try.params7] at hA hval
  obtain ⟨v0, vs0, d0, ds0, p0, q0, hargs, rfl, rfl, h0, r0⟩ := trodAll_cons hA
  obtain ⟨v1, vs1, d1, ds1, p1, q1, rfl, rfl, rfl, h1, r1⟩ := trodAll_cons r0
  obtain ⟨rfl, rfl, rfl⟩ := trodAll_nil r1
  obtain rfl : args = #[v0, v1] := by cases args; simp_all
  obtain ⟨rfl, rfl⟩ := trodVars_none hV
  obtain ⟨a0, rfl, rfl, rfl, w0⟩ := open_int Try.underlying35 (hval 0 35 v0 rfl rfl) h0
  obtain ⟨a1, rfl, rfl, rfl⟩ := open_bool Try.underlying4 (hval 1 4 v1 rfl rfl) h1
  clear hA0 hval0
  refine (walk a0 a1 w0 W).mono fun e W' ⟨he, bel⟩ => ?_
  subst he
  exact ⟨_, rfl, _, _, _, [], _, [], hW', trodAll_mk1 (shut_bool Try.underlying4 _), (trodAll_cons_mk (shut_int Try.underlying35 w0) (trodAll_cons_mk (shut_bool Try.underlying4 _) trodAll_mk0)), rfl, bel.frame _, fun h => by cases h⟩

theorem over : Rows.renderLinesRow.holds Try.pinned (OpenSpec.ofChange Rows.renderLinesSpec) :=
  OpenClaim.holds_of_wide 7 Try.f7 rfl rfl rfl rfl rfl rfl rfl ⟨rfl, rfl, rfl, rfl, rfl⟩ rfl rfl rfl rfl rfl (by kernel_rfl) Try.func7 (by kernel_rfl)
    (of_decide_eq_true (by kernel_rfl)) (by unfold Func.isWrapper; first | (rw [if_pos (by decide +kernel)]; kernel_rfl) | (rw [if_neg (by decide +kernel)]; exact ⟨rfl, rfl⟩))
    (fun os started H enc _ => lifted os started H enc)

/-- ████ THE STATEMENT ████ -/
theorem proved : Rows.RenderLinesSaid :=
  over
end Go.Proofs.Ytappdjhhaohejaa.renderLines
