/-
  The law TokParts of flail/flaillaw15 answers true for every input, and changes nothing that was there. Condition, which the card ties to the program's text: when the call begins, the package variables that the row lists hold what that text lays in them (math/bits.deBruijn32tab, math/bits.deBruijn64tab, internal/strconv.uint64pow10, strconv.ErrRange, strconv.ErrSyntax, flail/number.others).
-/
import Derived.Test.YtaebcplffgaonaaGreatDoorRows
import Derived.Test.YtaebcplffgaonaaGreatDoorTkAwake
import Derived.Test.YtaebcplffgaonaaGreatDoorQH
import Derived.Test.YtaebcplffgaonaaGreatDoorCards
import Derived.Test.YtaebcplffgaonaaGreatDoorP6
import Derived.WalkKit
import Derived.ProofKit
import Derived.ChangeOld
import Derived.Below
import Derived.OpenShut
import Derived.ShutString
namespace Go.Proofs.YtaebcplffgaonaaGreatDoor.tokParts
open Go.ChangeShapes Go.WideShapes Go.ChangeAt Go.RowKit
open Go.ChangeMaps (open_string shut_string)
set_option linter.unusedVariables false      -- a walk need not use every 'w<i>' (that an integer argument fits its kind)

theorem own : ownKnob Tryz.prog.godebug = none := by kernel_rfl

theorem opt_at (s : ByteArray) (i : Nat) (h : i < s.size) : s.data.toList[i]? = some s[i] := by
  rw [List.getElem?_eq_getElem (by rw [← Lib.size_eq]; exact h)]; rfl
theorem parts_list (a b : ByteArray) : (a ++ ⟨#[60, 47, 113, 62]⟩ ++ b).data.toList = a.data.toList ++ (60 :: 47 :: 113 :: 62 :: b.data.toList) := by
  simp [ByteArray.data_append]
/-- where a list of pieces is put behind a row -/
theorem spread {w w3 : World} {base : Nat} {v : Value} {Q : List TkV} {Q1 : List TkV} (h : RowTk w base v Q) (hq : ∀ q ∈ Q1, IsRows w3 q.ad q.len q.cap q.t.attrs ∧ (q.t.attrs = [] ∨ ∀ k, (Value.slice q.ad q.len q.cap).ownBlock = some k → w.heap.size ≤ k)) : ∀ q ∈ Q1, AttOk w3 v q :=
  fun q hm => attOk_row h (hq q hm).1 (hq q hm).2
set_option maxRecDepth 100000 in
set_option maxHeartbeats 8000000 in
theorem walk (a0 : ByteArray) (a1 : ByteArray) (w0 : a0.size ≤ maxLen) (w1 : a1.size ≤ maxLen) (w : World) (hT : LaidAt w) :
    Calls Tryz.prog 6 #[.string a0, .string a1] w fun e w' => e = .returned (.bool true) ∧ Below w.heap.size w w' := by
  have hm1 : ¬ 9223372036854775807 < 300 + 4 + 300 := by omega
  clear w0 w1
  have HW := Lib.hid hT
  clear hT
  by_cases hlen : 300 < a0.size ∨ 300 < a1.size
  · have hc : decide ((300 : Int) < (a0.size : Int)) = true ∨ decide ((300 : Int) < (a0.size : Int)) = false ∧ decide ((300 : Int) < (a1.size : Int)) = true := by
      simp only [decide_eq_true_eq, decide_eq_false_iff_not]; omega
    clear hlen
    rcases hc with hc | ⟨hc, hd⟩
    all_goals
      go_enter Tryz.func6, Tryz.ntmps6
      go_wp2_with (fail)
      refine (tkAwake_any w HW.out).mono ?_
      rintro e w1 ⟨rfl, c1⟩
      go_wp2
      go_ret
      exact ⟨rfl, c1⟩
  have d0 : decide ((300 : Int) < (a0.size : Int)) = false := decide_eq_false (by omega)
  have d1 : decide ((300 : Int) < (a1.size : Int)) = false := decide_eq_false (by omega)
  have hs0 : a0.size ≤ 300 := by omega
  have hs1 : a1.size ≤ 300 := by omega
  obtain ⟨i0, hi0, hz0, hz1, hz2⟩ := info_parts info_tok
  have H1 := fun w h => Lib.hid (tokTok_any a0 0 ⟨#[]⟩ w (by omega) (by decide) (by decide) h)
  have H2 := fun w h => Lib.hid (tokTok_any a1 0 ⟨#[]⟩ w (by omega) (by decide) (by decide) h)
  have H3 := fun w h => Lib.hid (tokTok_any (a0 ++ ⟨#[60, 47, 113, 62]⟩ ++ a1) 0 ⟨#[]⟩ w (by
    rw [ByteArray.size_append, ByteArray.size_append, show (ByteArray.mk #[60, 47, 113, 62]).size = 4 from rfl]; omega) (by decide) (by decide) h)
  rw [parts_list] at H3
  have HL : Hid (60 ∉ a0.data.toList → tokL 0 (⟨#[]⟩ : ByteArray).data.toList (a0.data.toList ++ (60 :: 47 :: 113 :: 62 :: a1.data.toList)) = tokL 0 (⟨#[]⟩ : ByteArray).data.toList a0.data.toList ++ (⟨2, [113], [], [], false⟩ : TokP) :: tokL 0 (⟨#[]⟩ : ByteArray).data.toList a1.data.toList) := Lib.hid fun h => tok_parts _ _ _ h
  have hl1 : (tokL 0 (⟨#[]⟩ : ByteArray).data.toList a0.data.toList).length ≤ 1000000 := by
    have := tok_len (⟨#[]⟩ : ByteArray).data.toList a0.data.toList
    rw [← Lib.size_eq] at this; omega
  have hl2 : (tokL 0 (⟨#[]⟩ : ByteArray).data.toList a1.data.toList).length ≤ 1000000 := by
    have := tok_len (⟨#[]⟩ : ByteArray).data.toList a1.data.toList
    rw [← Lib.size_eq] at this; omega
  generalize tokL 0 (⟨#[]⟩ : ByteArray).data.toList a0.data.toList = A1 at *
  generalize tokL 0 (⟨#[]⟩ : ByteArray).data.toList a1.data.toList = A2 at *
  generalize tokL 0 (⟨#[]⟩ : ByteArray).data.toList (a0.data.toList ++ (60 :: 47 :: 113 :: 62 :: a1.data.toList)) = A3 at *
  have p1 : ¬ 9223372036854775807 < a0.size + 4 := by omega
  have p2 : ¬ 9223372036854775807 < a0.size + 4 + a1.size := by omega
  clear hlen hm1
  go_enter Tryz.func6, Tryz.ntmps6
  go_wp2_with (fail)
  refine (tkAwake_any w HW.out).mono ?_
  rintro e w1 ⟨rfl, c1⟩
  have B1 := Lib.hid c1
  go_wp2
  clear d0 d1
  go_loopw [6] (fun v wr => ∃ i : Nat, v = .int .i64 (i : Int) ∧ w1 = wr ∧ i ≤ a0.size ∧ Hid (∀ j, j < i → a0.data.toList[j]? ≠ some 60)) (fun v _ => a0.size - (intOf v).toNat)
  case atStart => exact ⟨0, rfl, rfl, Nat.zero_le _, Lib.hid fun j h => absurd h (by omega)⟩
  case round =>
    obtain ⟨i, rfl, rfl, hi, HI⟩ := hrel
    by_cases hlt : i < a0.size
    · have HO := Lib.hid (opt_at a0 i hlt)
      by_cases c60 : a0[i] = 60
      · have b60 : (((a0[i].toNat : Nat) : Int) == 60) = true := by rw [c60]; rfl
        clear c60
        go_wp2
        go_ret
        exact ⟨rfl, c1⟩
      have b60 : (((a0[i].toNat : Nat) : Int) == 60) = false := by
        rw [beq_eq_false_iff_ne]; exact fun h => c60 (u8_eq _ 60 (by decide) h)
      have hn : ∀ j, j < i + 1 → a0.data.toList[j]? ≠ some 60 := fun j hj => by
        rcases Nat.lt_or_eq_of_le (Nat.le_of_lt_succ hj) with h1 | rfl
        · exact HI.out j h1
        · rw [HO.out]; exact fun e => c60 (Option.some.inj e)
      have HN := Lib.hid hn
      clear hn c60
      go_wp2
      go_roundw
      case rel => exact ⟨i + 1, by go_num, trivial, by omega, HN⟩
      case measure => simp [intOf]; omega
    · have h60 := no60 a0.data.toList (fun j hj => HI.out j (by rw [← Lib.size_eq] at hj; omega))
      have hL := HL.out h60
      have HLL := Lib.hid hL
      clear h60 HI hL HL c1
      have hb1 := B1.out.size
      have R0 := Lib.hid (rowTk_empty w1 w.heap.size _ rfl hb1)
      have B2 := Lib.hid (B1.out.alloc hb1 (.cells #[] 29))
      go_wp2_with (fail)
      refine (H1 _ (HW.out.below B2.out)).out.mono ?_
      rintro e w3 ⟨x, l, c, rfl, t3, c3⟩
      obtain ⟨Q1, hq1, hl3, hsrc, hq3⟩ := isToks_src t3
      subst hl3
      have hq1l : Q1.length ≤ 1000000 := by rw [← hq1, List.length_map] at hl1; exact hl1
      have R3 := Lib.hid (R0.out.below c3)
      have S3 := Lib.hid hsrc
      have K3 := Lib.hid (spread R0.out hq3)
      have B3 := Lib.hid (B2.out.trans (c3.mono B2.out.size))
      have hb3 := B3.out.size
      have HQ1 := Lib.hid hq1
      clear t3 c3 hsrc hq3 hq1 hl1
      go_wp2_with (at_builtin; refine wpList_append_G _ rfl _ _ 24 24 rfl w.heap.size 29 i0 _ 5 72 Tryz.underlying24 hi0 hz0 hz1 hz2 rfl _ 0 (cellsT []) rfl R3.out.1 _ Q1.length (cellsT Q1) rfl S3.out ?c1 ?c2 ?c3 ?_)
      case c1 => first | (simp [maxLen]; omega) | omega
      case c2 => first | omega | (simp; omega)
      case c3 => first | omega | (simp; omega)
      intro v4 w4 hown1 hgr1 hat1
      have P4 := Lib.hid (rowTk_push (Q := []) (R := Q1) R3.out K3.out B3.out (Nat.le_refl _) (by first | exact hown1 | simpa using hown1) hgr1 (by simpa using hat1))
      clear hown1 hgr1 hat1
      have R4 := Lib.hid (show RowTk w4 w.heap.size v4 Q1 from P4.out.1)
      have B4 := Lib.hid P4.out.2
      have hb4 := B4.out.size
      have R5 := Lib.hid (R4.out.below ((Below.refl _ w4).alloc (Nat.le_refl _) (.cells #[.int .i64 2, .string ⟨#[113]⟩, .string ⟨#[]⟩, .slice none 0 0, .bool false] 29)))
      have B5 := Lib.hid (B4.out.alloc hb4 (.cells #[.int .i64 2, .string ⟨#[113]⟩, .string ⟨#[]⟩, .slice none 0 0, .bool false] 29))
      have S5 := Lib.hid (Src.ofSlice (P := Tryz.prog) (size := 5) (w4.alloc (.cells #[.int .i64 2, .string ⟨#[113]⟩, .string ⟨#[]⟩, .slice none 0 0, .bool false] 29)) Tryz.underlying24 ⟨w4.heap.size, 0, none⟩ 1 1 (cellsT [(⟨⟨2, [113], [], [], false⟩, none, 0, 0⟩ : TkV)]) rfl (new_five w4 ⟨⟨2, [113], [], [], false⟩, none, 0, 0⟩ 29) (five_one _))
      go_wp2_with (at_builtin; refine wpList_append_G _ rfl _ _ 24 24 rfl w.heap.size 29 i0 _ 5 72 Tryz.underlying24 hi0 hz0 hz1 hz2 rfl _ Q1.length (cellsT Q1) rfl R5.out.1 _ 1 (cellsT [(⟨⟨2, [113], [], [], false⟩, none, 0, 0⟩ : TkV)]) rfl S5.out ?c1 ?c2 ?c3 ?_)
      case c1 => first | (simp [maxLen]; omega) | omega
      case c2 => first | omega | (simp; omega)
      case c3 => first | omega | (simp; omega)
      intro v6 w6 hown1 hgr1 hat1
      have P6 := Lib.hid (rowTk_push (R := [(⟨⟨2, [113], [], [], false⟩, none, 0, 0⟩ : TkV)]) R5.out (fun q h => by
        simp only [List.mem_cons, List.not_mem_nil, or_false] at h
        subst h
        exact ⟨⟨rfl, Nat.le_refl _, by simp [maxLen], fun i hi => by cases hi⟩, .inl rfl⟩) B5.out (Nat.le_refl _) (by first | exact hown1 | simpa using hown1) hgr1 (by simpa using hat1))
      clear hown1 hgr1 hat1
      have R6 := Lib.hid P6.out.1
      have B6 := Lib.hid P6.out.2
      go_wp2_with (fail)
      refine (H2 _ (HW.out.below B6.out)).out.mono ?_
      rintro e w7 ⟨x', l', c', rfl, t7, c7⟩
      obtain ⟨Q3, hq3, hl7, hsrc, hq7⟩ := isToks_src t7
      subst hl7
      have hq3l : Q3.length ≤ 1000000 := by rw [← hq3, List.length_map] at hl2; exact hl2
      have R7 := Lib.hid (R6.out.below c7)
      have S7 := Lib.hid hsrc
      have K7 := Lib.hid (spread R6.out hq7)
      have B7 := Lib.hid (B6.out.trans (c7.mono B6.out.size))
      have hb7 := B7.out.size
      have HQ3 := Lib.hid hq3
      have hql : (Q1 ++ [(⟨⟨2, [113], [], [], false⟩, none, 0, 0⟩ : TkV)]).length = Q1.length + 1 := by simp
      clear t7 c7 hsrc hq7 hq3 hl2
      go_wp2_with (at_builtin; refine wpList_append_G _ rfl _ _ 24 24 rfl w.heap.size 29 i0 _ 5 72 Tryz.underlying24 hi0 hz0 hz1 hz2 rfl _ (Q1 ++ [(⟨⟨2, [113], [], [], false⟩, none, 0, 0⟩ : TkV)]).length (cellsT (Q1 ++ [(⟨⟨2, [113], [], [], false⟩, none, 0, 0⟩ : TkV)])) rfl R7.out.1 _ Q3.length (cellsT Q3) rfl S7.out ?c1 ?c2 ?c3 ?_)
      case c1 => first | (simp [maxLen]; omega) | omega
      case c2 => first | omega | (simp; omega)
      case c3 => first | omega | (simp; omega)
      intro v8 w8 hown1 hgr1 hat1
      have P8 := Lib.hid (rowTk_push R7.out K7.out B7.out (Nat.le_refl _) (by first | exact hown1 | simpa using hown1) hgr1 (by simpa using hat1))
      clear hown1 hgr1 hat1
      have R8 := Lib.hid P8.out.1
      have B8 := Lib.hid P8.out.2
      obtain ⟨y, d, hv, ty⟩ := R8.out.told
      obtain ⟨N, hN⟩ : ∃ N, (Q1 ++ [(⟨⟨2, [113], [], [], false⟩, none, 0, 0⟩ : TkV)] ++ Q3).length = N := ⟨_, rfl⟩
      rw [hN] at hv ty
      subst hv
      clear hN
      have HTY := Lib.hid ty
      clear ty hql
      go_wp2_with (fail)
      refine (H3 _ (HW.out.below B8.out)).out.mono ?_
      rintro e w9 ⟨z, m, f, rfl, t9, c9⟩
      have B9 := Lib.hid (B8.out.trans (c9.mono B8.out.size))
      have HTY := Lib.hid (HTY.out.below c9 (Nat.le_refl _))
      have HA := Lib.hid (refAll_any _ _ _ _ _ _ _ _ _ t9.toks HTY.out)
      have heq : A3 = (Q1 ++ [(⟨⟨2, [113], [], [], false⟩, none, 0, 0⟩ : TkV)] ++ Q3).map TkV.t := by
        rw [HLL.out, List.map_append, List.map_append, HQ1.out, HQ3.out]; simp
      rw [decide_eq_true heq] at HA
      clear t9 c9 heq
      go_wp2_with (fail)
      refine HA.out.mono ?_
      rintro e w10 ⟨rfl, c10⟩
      go_wp2
      go_ret
      exact ⟨ret_bool (by simp), B9.out.trans (c10.mono B9.out.size)⟩
  -- go_wp2
  -- go_ret
  -- exact ⟨rfl, by repeat (first | exact Grown.refl _ | apply Grown.drew | apply Grown.alloc)⟩

theorem laid_met (os : Os) : laidMet Tryz.prog Rows.tokPartsRow.laid ((laidWorld os).forCall (fun _ _ => 0) ⟨#[], #[.string ByteArray.empty, .string ByteArray.empty], []⟩).memory :=
  laidMet_of_run' 8 (by kernel_rfl) (by kernel_rfl)
theorem reads (os : Os) {H : Type} (enc : TypeId × Value → H) : ∃ places, DataW.whole enc Tryz.prog ((laidWorld os).forCall (fun _ _ => 0) ⟨#[], #[.string ByteArray.empty, .string ByteArray.empty], []⟩).memory Tryz.f6.params.toList Rows.tokPartsSpec.vars false (#[.string ByteArray.empty, .string ByteArray.empty] : Array Value).toList 8 = some ([.lit (.string []), .lit (.string [])], [], places) :=
  ⟨[], by kernel_rfl⟩
set_option maxRecDepth 100000 in
theorem lifted (os : Os) (started : os.Started) (H : Type) (enc : TypeId × Value → H) (F : Stop.Interp) :
    ReturnsInHanded {} Tryz.checked os 6 .any ((OpenSpec.ofChange Rows.tokPartsSpec).preRow enc Tryz.prog Tryz.f6 Rows.tokPartsRow.domain false Rows.tokPartsRow.laid) (((OpenSpec.ofChange Rows.tokPartsSpec).at F).post enc Tryz.prog Tryz.f6 false true false false) := by
  obtain ⟨places, hx⟩ := reads os enc
  refine returnsInHanded_of_row (C := Tryz.checked) (s := OpenSpec.ofChange Rows.tokPartsSpec) own started (by kernel_rfl) Tryz.func6
    (witness_row_at (enc := enc) (C := Tryz.checked) false (laidWorld os) #[.string ByteArray.empty, .string ByteArray.empty] rfl (by kernel_rfl) (by kernel_rfl) (by kernel_rfl)
      (OpenSpec.preRow_of_cond 8 hx (by kernel_rfl) (fun k hk => by cases hk) (by kernel_rfl) (laid_met os))) ?_
  intro W base args ds gs before hval0 hW _ _ _ hL hsh _
  have hval : ∀ (j : Nat) t v, Tryz.f6.params[j]? = some t → args[j]? = some v → Value.okWide Tryz.prog W .any base t v := hval0
  have hW' := hW
  obtain ⟨p, q, hA0, hV, rfl, hfz, hnd⟩ := hW
  have hA : DataW.TrodAll enc Tryz.prog W 0 (fun _ => true) true Tryz.f6.params.toList args.toList ds p := hA0
  rw [Tryz.params6] at hA hval
  obtain ⟨v0, vs0, d0, ds0, p0, q0, hargs, rfl, rfl, h0, r0⟩ := trodAll_cons hA
  obtain ⟨v1, vs1, d1, ds1, p1, q1, rfl, rfl, rfl, h1, r1⟩ := trodAll_cons r0
  obtain ⟨rfl, rfl, rfl⟩ := trodAll_nil r1
  obtain rfl : args = #[v0, v1] := by cases args; simp_all
  obtain ⟨rfl, rfl⟩ := trodVars_none hV
  obtain ⟨a0, rfl, rfl, rfl, w0⟩ := open_string Tryz.underlying9 (hval 0 9 v0 rfl rfl) h0
  obtain ⟨a1, rfl, rfl, rfl, w1⟩ := open_string Tryz.underlying9 (hval 1 9 v1 rfl rfl) h1
  clear hA0 hval0
  refine (walk a0 a1 w0 w1 W (tabAt_of hL hsh)).mono fun e W' ⟨he, bel⟩ => ?_
  subst he
  exact ⟨_, rfl, _, _, _, [], _, [], hW', trodAll_mk1 (shut_bool Tryz.underlying4 _), (trodAll_cons_mk (shut_string Tryz.underlying9 w0) (trodAll_cons_mk (shut_string Tryz.underlying9 w1) trodAll_mk0)), rfl, bel.frame _, fun h => by cases h⟩

theorem said : Rows.TokPartsSaid :=
  OpenClaim.holds_of_cond 6 Tryz.f6 rfl rfl rfl rfl rfl rfl rfl ⟨rfl, rfl, rfl, rfl, rfl⟩ rfl rfl rfl rfl rfl (by kernel_rfl) Tryz.func6 (by kernel_rfl)
    (of_decide_eq_true (by kernel_rfl)) (by unfold Func.isWrapper; first | (rw [if_pos (by decide +kernel)]; kernel_rfl) | (rw [if_neg (by decide +kernel)]; exact ⟨rfl, rfl⟩))
    (fun os started H enc _ F => by rw [OpenClaim.pre_eq_preRow]; exact lifted os started H enc F)
theorem plain (f : FuncId) (fn : Func) (hf : Tryz.pinned.checked.prog.funcNamed "flail/flaillaw15.TokParts" = some f) (hfn : Tryz.pinned.checked.prog.funcs[f]? = some fn) :
    true = Tryz.pinned.checked.prog.looks [] ∧ ∀ (j : Nat) t, fn.params[j]? = some t → Tryz.pinned.checked.prog.wantsStandIn t = false := by
  obtain rfl : f = 6 := Option.some.inj ((show Tryz.prog.funcNamed "flail/flaillaw15.TokParts" = some 6 by kernel_rfl).symm.trans hf) |>.symm
  obtain rfl : fn = Tryz.f6 := (Option.some.inj (Tryz.func6.symm.trans hfn)).symm
  refine ⟨by kernel_rfl, fun j t ht => ?_⟩
  rw [Tryz.params6] at ht
  have hm : t ∈ [9] := by first | simpa using Array.mem_of_getElem? ht | (have h := Array.mem_of_getElem? ht; simp at h ⊢; grind)
  have hall : ([9].all fun u => !Tryz.prog.wantsStandIn u) = true := by kernel_rfl
  exact (show Tryz.prog.wantsStandIn t = false by simpa using List.all_eq_true.1 hall t hm)
/-- the statement: the row's card -/
theorem proved : Rows.TokPartsCardSaid :=
  Claim7.holds_tied_plain_at .later [] _ _ _ _ said (fun _ h => by cases h) (by kernel_rfl) (fun _ h => by cases h) tokParts_row_tie rfl ⟨rfl, rfl⟩ (by kernel_rfl) rfl plain (by kernel_rfl)
end Go.Proofs.YtaebcplffgaonaaGreatDoor.tokParts
