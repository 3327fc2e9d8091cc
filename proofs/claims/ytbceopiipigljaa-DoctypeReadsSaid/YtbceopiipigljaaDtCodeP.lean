/-
  What package doctype's Parse answers. (Written by wip/tools/gen_dtcode.py.)
-/
import Derived.Test.YtbceopiipigljaaDtHelp
import Derived.Test.YtbceopiipigljaaDtAt
import Derived.Test.YtbceopiipigljaaHops
import Derived.KernelRfl
namespace Go.Proofs.Ytbceopiipigljaa
open Go.RowKit Go.Lib

theorem sizeStrP : (Try.prog.info? 9).map (·.size) = some 1 := by kernel_rfl
theorem sizeBoolP : (Try.prog.info? 4).map (·.size) = some 1 := by kernel_rfl
theorem sizeDocP : (Try.prog.info? 31).map (·.size) = some 7 := by kernel_rfl
theorem no_text (R : ByteArray) (h : R.data.toList = []) : R = ⟨#[]⟩ := str_ext (by rw [h])
theorem some_text (R : ByteArray) (h : R.data.toList ≠ []) : ¬ R.toList = [] ∧ R.toList.isEmpty = false := by
  have hn : ¬ R.toList = [] := fun e => by
    have := str_beq R ⟨#[]⟩
    cases hl : R.data.toList with
    | nil => exact h hl
    | cons c t =>
      rw [e, hl] at this
      simp at this
  refine ⟨hn, ?_⟩
  cases h : R.toList with
  | nil => exact absurd h hn
  | cons a l => rfl
theorem bs_list (R : ByteArray) (l : Txt) (h : R.data.toList = l) (w : World) (hs : R.size ≤ 1048576) :
    Calls Try.prog 24 #[.string R] w fun e w' => e = .returned (.string ⟨(l.dropWhile spaB).toArray⟩) ∧ w' = w := by
  subst h; exact behindSpaces_any R w hs
theorem q_list (R : ByteArray) (l : Txt) (h : R.data.toList = l) (w : World) :
    Calls Try.prog 26 #[.string R] w fun e w' => e = .returned (.bool (l.head?.any quoB)) ∧ w' = w := by
  subst h; exact quoted_any R w
theorem dw_len (p : UInt8 → Bool) (l : Txt) : (l.dropWhile p).length ≤ l.length := (List.dropWhile_sublist p).length_le
theorem dw_twice (p : UInt8 → Bool) (l : Txt) : (l.dropWhile p).dropWhile p = l.dropWhile p := by
  rcases dw_cases p l with h | ⟨c, t, h, hc⟩
  · rw [h]; rfl
  · rw [h, List.dropWhile_cons, if_neg (by rw [hc]; exact Bool.false_ne_true)]
theorem st4_no (d : DocP) (ended : Bool) (l : Txt) (h : (l.dropWhile spaB).head?.any quoB = false) : st4 d ended l = { d with q := true } := by
  unfold st4
  cases hc : l.dropWhile spaB with
  | nil => rfl
  | cons c t =>
    rw [hc] at h
    have h : quoB c = false := by simpa using h
    simp only
    rw [h]; rfl
theorem any_head (l : Txt) (h : l.head?.any quoB = true) : ∃ c t, l = c :: t ∧ quoB c = true := by
  cases l with
  | nil => simp at h
  | cons c t => exact ⟨c, t, rfl, by simpa using h⟩
theorem st4_yes (d : DocP) (ended : Bool) (l : Txt) (c : UInt8) (t : Txt) (h : l.dropWhile spaB = c :: t) (hq : quoB c = true) : st4 d ended l = st5 d ended c t := by
  unfold st4
  rw [h]
  simp only
  rw [if_pos hq]
theorem st4_again (d : DocP) (ended : Bool) (l : Txt) : st4 d ended (l.dropWhile spaB) = st4 d ended l := by
  unfold st4; rw [dw_twice]
theorem st3_no (d : DocP) (ended : Bool) (l : Txt) (h : (l.dropWhile spaB).head?.any quoB = false) : st3 d ended l = { d with q := true } := by
  unfold st3
  cases hc : l.dropWhile spaB with
  | nil => rfl
  | cons c t =>
    rw [hc] at h
    have h : quoB c = false := by simpa using h
    simp only
    rw [h]; rfl
theorem st3_yes (d : DocP) (ended : Bool) (l : Txt) (c : UInt8) (t : Txt) (h : l.dropWhile spaB = c :: t) (hq : quoB c = true) :
    (t.dropWhile (· != c) = [] → st3 d ended l = { d with pub := cleanL (t.takeWhile (· != c)), hp := true, q := true }) ∧
    ∀ x z, t.dropWhile (· != c) = x :: z →
      (z.dropWhile spaB = [] → st3 d ended l = { d with pub := cleanL (t.takeWhile (· != c)), hp := true, q := !ended }) ∧
      (z.dropWhile spaB ≠ [] → st3 d ended l = st4 { d with pub := cleanL (t.takeWhile (· != c)), hp := true } ended (z.dropWhile spaB)) := by
  unfold st3
  rw [h]
  simp only
  rw [if_pos hq]
  refine ⟨fun h0 => by rw [h0], fun x z h0 => ⟨fun h1 => by rw [h0]; simp only; rw [h1], fun h1 => ?_⟩⟩
  rw [h0, st4_again]
  unfold st4
  cases h2 : z.dropWhile spaB with
  | nil => exact absurd h2 h1
  | cons e u => simp only [h2]
theorem st5_told (d : DocP) (ended : Bool) (c : UInt8) (t : Txt) :
    (t.dropWhile (· != c) = [] → st5 d ended c t = { d with sys := cleanL (t.takeWhile (· != c)), hs := true, q := true }) ∧
    ∀ x z, t.dropWhile (· != c) = x :: z → st5 d ended c t = { d with sys := cleanL (t.takeWhile (· != c)), hs := true, q := (z.dropWhile spaB).isEmpty && !ended } := by
  unfold st5
  exact ⟨fun h => by rw [h], fun x z h => by rw [h]⟩
theorem beg_word (R : ByteArray) (l : Txt) (h : R.data.toList = l) (low : ByteArray) : begS R (0 : Int) low = low.data.toList.isPrefixOf (lowL l) := by
  subst h
  unfold begS
  rw [decide_eq_true (show 0 ≤ (0 : Int) ∧ (0 : Int) ≤ (R.size : Int) by omega), Bool.true_and]; rfl
set_option maxRecDepth 100000 in
set_option maxHeartbeats 16000000 in
theorem dctParse_all (s : ByteArray) (ended : Bool) (w : World) (hs : s.size ≤ 1048576) :
    Calls Try.prog 15 #[.string s, .bool ended] w fun e w' => e = .returned (docV (parseD s.data.toList ended)) ∧ Below w.heap.size w w' := by
  have HB0 := fun w => Lib.hid (behindSpaces_any s w hs)
  have HPD : Hid (parseD s.data.toList ended = match s.data.toList.dropWhile spaB with
    | [] => ⟨[], [], [], false, false, false, true⟩
    | l => st2 ⟨dtN l, [], [], true, false, false, false⟩ ended (l.dropWhile (fun c => !spaB c))) := Lib.hid rfl
  have hz0 : (s.data.toList.dropWhile spaB).length ≤ 1048576 := Nat.le_trans (dw_len _ _) (by rw [← Lib.size_eq]; exact hs)
  obtain ⟨R0, eR0⟩ : ∃ R : ByteArray, ⟨(s.data.toList.dropWhile spaB).toArray⟩ = R := ⟨_, rfl⟩
  have lR0 : R0.data.toList = s.data.toList.dropWhile spaB := by rw [← eR0]
  rw [eR0] at HB0
  clear eR0
  have RH : Hid (DocAt 31 ((w.alloc (.cells #[.string ⟨#[]⟩, .string ⟨#[]⟩, .string ⟨#[]⟩, .bool false, .bool false, .bool false, .bool false] 31)).alloc (.cells #[.string ⟨#[]⟩, .string ⟨#[]⟩, .string ⟨#[]⟩, .bool false, .bool false, .bool false, .bool false] 31)) (w.heap.size + 1) doc0) := Lib.hid (by
    have := docAt_new 31 (w.alloc (.cells #[.string ⟨#[]⟩, .string ⟨#[]⟩, .string ⟨#[]⟩, .bool false, .bool false, .bool false, .bool false] 31))
    simpa using this)
  have RG : Hid (DocAt 31 ((w.alloc (.cells #[.string ⟨#[]⟩, .string ⟨#[]⟩, .string ⟨#[]⟩, .bool false, .bool false, .bool false, .bool false] 31)).alloc (.cells #[.string ⟨#[]⟩, .string ⟨#[]⟩, .string ⟨#[]⟩, .bool false, .bool false, .bool false, .bool false] 31)) w.heap.size doc0) := Lib.hid
    ((docAt_new 31 w).below ((Below.refl _ _).alloc (Nat.le_refl _) (.cells #[.string ⟨#[]⟩, .string ⟨#[]⟩, .string ⟨#[]⟩, .bool false, .bool false, .bool false, .bool false] 31)))
  obtain ⟨W, hW⟩ : ∃ W, (w.alloc (.cells #[.string ⟨#[]⟩, .string ⟨#[]⟩, .string ⟨#[]⟩, .bool false, .bool false, .bool false, .bool false] 31)).alloc (.cells #[.string ⟨#[]⟩, .string ⟨#[]⟩, .string ⟨#[]⟩, .bool false, .bool false, .bool false, .bool false] 31) = W := ⟨_, rfl⟩
  rw [hW] at RH RG
  have B : Hid (Below w.heap.size w W) := Lib.hid (by rw [← hW]; exact below_two w _ _)
  have HW := Lib.hid hW
  have HZ0 := Lib.hid hz0
  have LR0 := Lib.hid lR0
  clear hW hz0 lR0
  go_enter Try.func15, Try.ntmps15
  go_wp2
  refine wp_scope_hops 3 _ rfl ?_
  generalize hF : findLabel _ = F
  have HF0 : Hid (F 0 = some _) := Lib.hid (by rw [← hF]; rfl)
  have HF1 : Hid (F 1 = some _) := Lib.hid (by rw [← hF]; rfl)
  have HF2 : Hid (F 2 = some _) := Lib.hid (by rw [← hF]; rfl)
  have HF3 : Hid (F 3 = some _) := Lib.hid (by rw [← hF]; rfl)
  clear hF
  go_wp2_with (fail)
  rw [HW.out]
  refine (HB0 _).out.mono ?_
  rintro e wb0 ⟨rfl, rfl⟩
  rcases hd0 : s.data.toList.dropWhile spaB with _ | ⟨c0, t0⟩
  · have HV := Lib.hid (HPD.out.trans (by rw [hd0]))
    have lR0 := LR0.out
    rw [hd0] at lR0
    obtain rfl := no_text R0 lR0
    clear hd0 lR0
    go_wp2_with (fail)
    go_step3
    refine ⟨_, HF0.out, ?_⟩
    obtain ⟨x0, x1, x2, x3, x4, x5, x6⟩ := docAt_cells RH.out
    go_wp2_with (first
      | (refine wpList_store_doc1 31 rfl 4 _ _ rfl (w.heap.size + 1) 6 _ doc0 ⟨[], [], [], false, false, false, true⟩ rfl rfl RH.out (by decide) sizeBoolP rfl rfl rfl ?_; intro wx rx gx; have RG := Lib.hid (RG.out.kept gx (by omega)); have RH := Lib.hid rx; have B := Lib.hid (B.out.grown gx B.out.size (fun j hj => by cases hj; omega)); obtain ⟨y0, y1, y2, y3, y4, y5, y6⟩ := docAt_cells rx; clear rx gx)
      | (refine wpList_load_doc 31 rfl _ rfl (w.heap.size + 1) ⟨[], [], [], false, false, false, true⟩ _ rfl RH.out Try.underlying31 rfl sizeDocP ?_)
      | (refine wpList_store_doc 31 rfl _ _ rfl w.heap.size ⟨[], [], [], false, false, false, true⟩ doc0 rfl rfl RG.out sizeDocP ?_; intro wy ry gy))
    rw [hops_ret]
    refine bodyPost_ret (results_cell_row rfl _ _ w.heap.size 31 (docCells ⟨[], [], [], false, false, false, true⟩) (0, 0) _ rfl ry Try.underlying31 rfl sizeDocP) rfl ?_
    exact ⟨by rw [HV.out]; rfl, B.out.grown gy B.out.size (fun j hj => by cases hj; exact Nat.le_refl _)⟩
  have hv0 := HPD.out
  rw [hd0] at hv0
  have lR0 := LR0.out
  rw [hd0] at lR0
  obtain ⟨n0, m0⟩ := some_text R0 (by rw [lR0]; exact List.cons_ne_nil _ _)
  have hz0 := HZ0.out
  rw [hd0] at hz0
  have HN0 := fun w => Lib.hid (name_any R0 w (by rw [Lib.size_eq, lR0]; exact hz0))
  rw [lR0] at HN0
  obtain ⟨NM, hNM⟩ : ∃ X, dtN (c0 :: t0) = X := ⟨_, rfl⟩
  have hv0 : parseD s.data.toList ended = st2 ⟨dtN (c0 :: t0), [], [], true, false, false, false⟩ ended ((c0 :: t0).dropWhile (fun c => !spaB c)) := hv0
  rw [hNM] at HN0 hv0
  have hz1 : ((c0 :: t0).dropWhile (fun c => !spaB c)).length ≤ 1048576 := Nat.le_trans (dw_len _ _) hz0
  obtain ⟨d1, hd1⟩ : ∃ X, (c0 :: t0).dropWhile (fun c => !spaB c) = X := ⟨_, rfl⟩
  rw [hd1] at HN0 hv0 hz1
  obtain ⟨R1, eR1⟩ : ∃ R : ByteArray, ⟨(d1).toArray⟩ = R := ⟨_, rfl⟩
  have lR1 : R1.data.toList = d1 := by rw [← eR1]
  rw [eR1] at HN0
  clear eR1
  have HB1 := fun w => Lib.hid (bs_list R1 _ lR1 w (by rw [Lib.size_eq, lR1]; exact hz1))
  obtain ⟨R2, eR2⟩ : ∃ R : ByteArray, ⟨(d1.dropWhile spaB).toArray⟩ = R := ⟨_, rfl⟩
  have lR2 : R2.data.toList = d1.dropWhile spaB := by rw [← eR2]
  rw [eR2] at HB1
  clear eR2
  have hz2 : (d1.dropWhile spaB).length ≤ 1048576 := Nat.le_trans (dw_len _ _) hz1
  have HV1 := Lib.hid hv0
  have HZ2 := Lib.hid hz2
  have LR2 := Lib.hid lR2
  clear hv0 lR0 hz0 hNM hd0 hd1 hz1 hz2 lR1 lR2
  go_wp2_with (fail)
  refine (HN0 _).out.mono ?_
  rintro e wn0 ⟨rfl, bn0⟩
  have RG := Lib.hid (RG.out.below bn0)
  have RH := Lib.hid (RH.out.below bn0)
  have B := Lib.hid (B.out.trans (Below.mono bn0 B.out.size))
  clear bn0
  obtain ⟨x0, x1, x2, x3, x4, x5, x6⟩ := docAt_cells RH.out
  go_wp2_with (first
    | (refine wpList_store_doc1 31 rfl 9 _ _ rfl (w.heap.size + 1) 0 _ doc0 ⟨NM, [], [], false, false, false, false⟩ rfl rfl RH.out (by decide) sizeStrP rfl rfl rfl ?_; intro wx rx gx; have RG := Lib.hid (RG.out.kept gx (by omega)); have RH := Lib.hid rx; have B := Lib.hid (B.out.grown gx B.out.size (fun j hj => by cases hj; omega)); obtain ⟨y0, y1, y2, y3, y4, y5, y6⟩ := docAt_cells rx; clear rx gx)
    | (refine wpList_store_doc1 31 rfl 4 _ _ rfl (w.heap.size + 1) 3 _ ⟨NM, [], [], false, false, false, false⟩ ⟨NM, [], [], true, false, false, false⟩ rfl rfl RH.out (by decide) sizeBoolP rfl rfl rfl ?_; intro wx rx gx; have RG := Lib.hid (RG.out.kept gx (by omega)); have RH := Lib.hid rx; have B := Lib.hid (B.out.grown gx B.out.size (fun j hj => by cases hj; omega)); obtain ⟨y0, y1, y2, y3, y4, y5, y6⟩ := docAt_cells rx; clear rx gx))
  refine (HB1 _).out.mono ?_
  rintro e wb1 ⟨rfl, rfl⟩
  by_cases hd2 : d1.dropWhile spaB = []
  · have HV := Lib.hid (HV1.out.trans (show _ = ⟨NM, [], [], true, false, false, (!ended)⟩ by unfold st2; rw [hd2]))
    have lR2 := LR2.out
    rw [hd2] at lR2
    obtain rfl := no_text R2 lR2
    clear hd2 lR2
    go_wp2_with (fail)
    go_step3
    refine ⟨_, HF1.out, ?_⟩
    obtain ⟨x0, x1, x2, x3, x4, x5, x6⟩ := docAt_cells RH.out
    go_wp2_with (first
      | (refine wpList_store_doc1 31 rfl 4 _ _ rfl (w.heap.size + 1) 6 _ ⟨NM, [], [], true, false, false, false⟩ ⟨NM, [], [], true, false, false, (!ended)⟩ rfl rfl RH.out (by decide) sizeBoolP rfl rfl rfl ?_; intro wx rx gx; have RG := Lib.hid (RG.out.kept gx (by omega)); have RH := Lib.hid rx; have B := Lib.hid (B.out.grown gx B.out.size (fun j hj => by cases hj; omega)); obtain ⟨y0, y1, y2, y3, y4, y5, y6⟩ := docAt_cells rx; clear rx gx)
      | (refine wpList_load_doc 31 rfl _ rfl (w.heap.size + 1) ⟨NM, [], [], true, false, false, (!ended)⟩ _ rfl RH.out Try.underlying31 rfl sizeDocP ?_)
      | (refine wpList_store_doc 31 rfl _ _ rfl w.heap.size ⟨NM, [], [], true, false, false, (!ended)⟩ doc0 rfl rfl RG.out sizeDocP ?_; intro wy ry gy))
    rw [hops_ret]
    refine bodyPost_ret (results_cell_row rfl _ _ w.heap.size 31 (docCells ⟨NM, [], [], true, false, false, (!ended)⟩) (0, 0) _ rfl ry Try.underlying31 rfl sizeDocP) rfl ?_
    exact ⟨by rw [HV.out]; rfl, B.out.grown gy B.out.size (fun j hj => by cases hj; exact Nat.le_refl _)⟩
  have hv2 : parseD s.data.toList ended = if pubL.isPrefixOf (lowL (d1.dropWhile spaB)) = true then st3 ⟨NM, [], [], true, false, false, false⟩ ended ((d1.dropWhile spaB).drop 6) else if sysL.isPrefixOf (lowL (d1.dropWhile spaB)) = true then st4 ⟨NM, [], [], true, false, false, false⟩ ended ((d1.dropWhile spaB).drop 6) else ⟨NM, [], [], true, false, false, true⟩ := by
    rw [HV1.out]
    unfold st2
    cases h : d1.dropWhile spaB with
    | nil => exact absurd h hd2
    | cons a l => rfl
  obtain ⟨n2, m2⟩ := some_text R2 (by rw [LR2.out]; exact hd2)
  have hs2 : R2.size ≤ 1048576 := by rw [Lib.size_eq, LR2.out]; exact HZ2.out
  have HW1 := fun w => Lib.hid (begins R2 (0 : Int) ⟨#[112, 117, 98, 108, 105, 99]⟩ w (by omega) (by decide) (by omega) (by omega))
  have HW2 := fun w => Lib.hid (begins R2 (0 : Int) ⟨#[115, 121, 115, 116, 101, 109]⟩ w (by omega) (by decide) (by omega) (by omega))
  rw [beg_word R2 _ LR2.out, show (⟨#[112, 117, 98, 108, 105, 99]⟩ : ByteArray).data.toList = pubL from rfl] at HW1
  rw [beg_word R2 _ LR2.out, show (⟨#[115, 121, 115, 116, 101, 109]⟩ : ByteArray).data.toList = sysL from rfl] at HW2
  have h6 : pubL.isPrefixOf (lowL (d1.dropWhile spaB)) = true ∨ sysL.isPrefixOf (lowL (d1.dropWhile spaB)) = true → 6 ≤ R2.size := fun h => by
    have h9 : 6 ≤ (lowL (d1.dropWhile spaB)).length := by
      rcases h with h | h
      · exact (List.isPrefixOf_iff_prefix.1 h).length_le
      · exact (List.isPrefixOf_iff_prefix.1 h).length_le
    rw [lowL_len] at h9; rw [Lib.size_eq, LR2.out]; exact h9
  have hz3 : ((d1.dropWhile spaB).drop 6).length ≤ 1048576 := by rw [List.length_drop]; have := HZ2.out; omega
  have hx3 : R2.extract 6 R2.size = ⟨((d1.dropWhile spaB).drop 6).toArray⟩ := by rw [tail_str, LR2.out]
  obtain ⟨PU, hPU⟩ : ∃ b, pubL.isPrefixOf (lowL (d1.dropWhile spaB)) = b := ⟨_, rfl⟩
  obtain ⟨SS, hSS⟩ : ∃ b, sysL.isPrefixOf (lowL (d1.dropWhile spaB)) = b := ⟨_, rfl⟩
  rw [hPU] at HW1 hv2 h6
  rw [hSS] at HW2 hv2 h6
  obtain ⟨d3, hd3⟩ : ∃ X, (d1.dropWhile spaB).drop 6 = X := ⟨_, rfl⟩
  rw [hd3] at hv2 hz3 hx3
  obtain ⟨R3, hR3⟩ : ∃ R, R2.extract 6 R2.size = R := ⟨_, rfl⟩
  have lR3 : R3.data.toList = d3 := by rw [← hR3, hx3]
  have HV2 := Lib.hid hv2
  have HR3 := Lib.hid hR3
  have HZR3 := Lib.hid hz3
  have H6 := Lib.hid h6
  clear hv2 hR3 hz3 h6 hx3 hPU hSS hd3 hd2
  go_wp2_with (fail)
  refine (HW1 _).out.mono ?_
  rintro e ww1 ⟨rfl, nw1, rfl⟩
  have RG := Lib.hid (RG.out.below (dr_below _ _ nw1))
  have RH := Lib.hid (RH.out.below (dr_below _ _ nw1))
  have B := Lib.hid (B.out.trans (Below.mono (dr_below _ _ nw1) B.out.size))
  cases PU
  · skip
    go_wp2_with (fail)
    refine (HW2 _).out.mono ?_
    rintro e ww2 ⟨rfl, nw2, rfl⟩
    have RG := Lib.hid (RG.out.below (dr_below _ _ nw2))
    have RH := Lib.hid (RH.out.below (dr_below _ _ nw2))
    have B := Lib.hid (B.out.trans (Below.mono (dr_below _ _ nw2) B.out.size))
    rw [World.drewN_drewN] at RG RH B
    cases SS
    · have HV := Lib.hid (HV2.out.trans (by rfl))
      go_wp2_with (fail)
      go_step3
      refine ⟨_, HF0.out, ?_⟩
      obtain ⟨x0, x1, x2, x3, x4, x5, x6⟩ := docAt_cells RH.out
      go_wp2_with (first
        | (refine wpList_store_doc1 31 rfl 4 _ _ rfl (w.heap.size + 1) 6 _ ⟨NM, [], [], true, false, false, false⟩ ⟨NM, [], [], true, false, false, true⟩ rfl rfl RH.out (by decide) sizeBoolP rfl rfl rfl ?_; intro wx rx gx; have RG := Lib.hid (RG.out.kept gx (by omega)); have RH := Lib.hid rx; have B := Lib.hid (B.out.grown gx B.out.size (fun j hj => by cases hj; omega)); obtain ⟨y0, y1, y2, y3, y4, y5, y6⟩ := docAt_cells rx; clear rx gx)
        | (refine wpList_load_doc 31 rfl _ rfl (w.heap.size + 1) ⟨NM, [], [], true, false, false, true⟩ _ rfl RH.out Try.underlying31 rfl sizeDocP ?_)
        | (refine wpList_store_doc 31 rfl _ _ rfl w.heap.size ⟨NM, [], [], true, false, false, true⟩ doc0 rfl rfl RG.out sizeDocP ?_; intro wy ry gy))
      rw [hops_ret]
      refine bodyPost_ret (results_cell_row rfl _ _ w.heap.size 31 (docCells ⟨NM, [], [], true, false, false, true⟩) (0, 0) _ rfl ry Try.underlying31 rfl sizeDocP) rfl ?_
      exact ⟨by rw [HV.out]; rfl, B.out.grown gy B.out.size (fun j hj => by cases hj; exact Nat.le_refl _)⟩
    have HV0 := Lib.hid (show parseD s.data.toList ended = st4 ⟨NM, [], [], true, false, false, false⟩ ended d3 from HV2.out)
    have hl6 : (6 : Int) ≤ (R2.size : Int) := by have := H6.out (.inr rfl); omega
    go_wp2_with (fail)
    go_step3
    refine ⟨_, HF3.out, ?_⟩
    rw [HR3.out]
    have hz8 : R3.size ≤ 1048576 := by rw [Lib.size_eq, lR3]; exact HZR3.out
    have HB8 := fun w => Lib.hid (bs_list R3 _ lR3 w hz8)
    obtain ⟨R8, eR8⟩ : ∃ R : ByteArray, ⟨((d3).dropWhile spaB).toArray⟩ = R := ⟨_, rfl⟩
    have lR8 : R8.data.toList = (d3).dropWhile spaB := by rw [← eR8]
    rw [eR8] at HB8
    clear eR8
    have HZR8 : Hid (R8.data.toList.length ≤ 1048576) := Lib.hid (by rw [lR8]; exact Nat.le_trans (dw_len _ _) HZR3.out)
    have HQ8 := fun w => Lib.hid (q_list R8 _ lR8 w)
    have hno := st4_no ⟨NM, [], [], true, false, false, false⟩ ended (d3)
    have hye := any_head ((d3).dropWhile spaB)
    have hys := fun c t h q => st4_yes ⟨NM, [], [], true, false, false, false⟩ ended (d3) c t h q
    obtain ⟨q8, hq8⟩ : ∃ b, ((d3).dropWhile spaB).head?.any quoB = b := ⟨_, rfl⟩
    rw [hq8] at HQ8 hno hye
    have HNO := Lib.hid hno
    have HYE := Lib.hid hye
    have HYS := Lib.hid hys
    have LR8 := Lib.hid lR8
    clear hno hye hys hq8 lR8 hz8
    go_wp2_with (fail)
    refine (HB8 _).out.mono ?_
    rintro e wb8 ⟨rfl, rfl⟩
    go_wp2_with (fail)
    refine (HQ8 _).out.mono ?_
    rintro e wq8 ⟨rfl, rfl⟩
    cases q8
    · have HV := Lib.hid (HV0.out.trans (HNO.out rfl))
      go_wp2_with (fail)
      go_step3
      refine ⟨_, HF0.out, ?_⟩
      obtain ⟨x0, x1, x2, x3, x4, x5, x6⟩ := docAt_cells RH.out
      go_wp2_with (first
        | (refine wpList_store_doc1 31 rfl 4 _ _ rfl (w.heap.size + 1) 6 _ ⟨NM, [], [], true, false, false, false⟩ ⟨NM, [], [], true, false, false, true⟩ rfl rfl RH.out (by decide) sizeBoolP rfl rfl rfl ?_; intro wx rx gx; have RG := Lib.hid (RG.out.kept gx (by omega)); have RH := Lib.hid rx; have B := Lib.hid (B.out.grown gx B.out.size (fun j hj => by cases hj; omega)); obtain ⟨y0, y1, y2, y3, y4, y5, y6⟩ := docAt_cells rx; clear rx gx)
        | (refine wpList_load_doc 31 rfl _ rfl (w.heap.size + 1) ⟨NM, [], [], true, false, false, true⟩ _ rfl RH.out Try.underlying31 rfl sizeDocP ?_)
        | (refine wpList_store_doc 31 rfl _ _ rfl w.heap.size ⟨NM, [], [], true, false, false, true⟩ doc0 rfl rfl RG.out sizeDocP ?_; intro wy ry gy))
      rw [hops_ret]
      refine bodyPost_ret (results_cell_row rfl _ _ w.heap.size 31 (docCells ⟨NM, [], [], true, false, false, true⟩) (0, 0) _ rfl ry Try.underlying31 rfl sizeDocP) rfl ?_
      exact ⟨by rw [HV.out]; rfl, B.out.grown gy B.out.size (fun j hj => by cases hj; exact Nat.le_refl _)⟩
    obtain ⟨c8, t8, hl8, hc8⟩ := HYE.out rfl
    have HV5 := HV0.out.trans (HYS.out c8 t8 hl8 hc8)
    have lR8 := LR8.out.trans hl8
    obtain ⟨p1, p2⟩ := st5_told ⟨NM, [], [], true, false, false, false⟩ ended c8 t8
    have HI8 := fun w => Lib.hid (inQuotes_any R8 c8 t8 w (by rw [Lib.size_eq]; exact HZR8.out) lR8)
    have hz9 : ((t8.dropWhile (· != c8)).tail).length ≤ 1048576 := by
      have h1 := dw_len (· != c8) t8
      have h2 := HZR8.out
      rw [lR8, List.length_cons] at h2
      rw [List.length_tail]; omega
    obtain ⟨SY, hSY⟩ : ∃ X, cleanL (t8.takeWhile (· != c8)) = X := ⟨_, rfl⟩
    rw [hSY] at HI8 p1 p2
    have HZR9 := Lib.hid hz9
    obtain ⟨R9, eR9⟩ : ∃ R : ByteArray, ⟨((t8.dropWhile (· != c8)).tail).toArray⟩ = R := ⟨_, rfl⟩
    have lR9 : R9.data.toList = (t8.dropWhile (· != c8)).tail := by rw [← eR9]
    rw [eR9] at HI8
    clear eR9
    obtain ⟨W8, hW8⟩ : ∃ X, t8.dropWhile (· != c8) = X := ⟨_, rfl⟩
    rw [hW8] at HI8 p1 p2 lR9 HZR9
    have P1 := Lib.hid p1
    have P2 := Lib.hid p2
    have HV5 := Lib.hid HV5
    clear p1 p2 hSY hW8 hl8 hc8 lR8 hz9
    rcases W8 with _ | ⟨x8, z8⟩
    · have HV := Lib.hid (HV5.out.trans (P1.out rfl))
      clear HZR9 lR9
      rw [show (!([] : Txt).isEmpty) = false from rfl] at HI8
      go_wp2_with (fail)
      refine (HI8 _).out.mono ?_
      rintro e wi8 ⟨rfl, bi8⟩
      have RG := Lib.hid (RG.out.below bi8)
      have RH := Lib.hid (RH.out.below bi8)
      have B := Lib.hid (B.out.trans (Below.mono bi8 B.out.size))
      clear bi8
      obtain ⟨x0, x1, x2, x3, x4, x5, x6⟩ := docAt_cells RH.out
      go_wp2_with (first
        | (refine wpList_store_doc1 31 rfl 9 _ _ rfl (w.heap.size + 1) 2 _ ⟨NM, [], [], true, false, false, false⟩ ⟨NM, [], SY, true, false, false, false⟩ rfl rfl RH.out (by decide) sizeStrP rfl rfl rfl ?_; intro wx rx gx; have RG := Lib.hid (RG.out.kept gx (by omega)); have RH := Lib.hid rx; have B := Lib.hid (B.out.grown gx B.out.size (fun j hj => by cases hj; omega)); obtain ⟨y0, y1, y2, y3, y4, y5, y6⟩ := docAt_cells rx; clear rx gx)
        | (refine wpList_store_doc1 31 rfl 4 _ _ rfl (w.heap.size + 1) 5 _ ⟨NM, [], SY, true, false, false, false⟩ ⟨NM, [], SY, true, false, true, false⟩ rfl rfl RH.out (by decide) sizeBoolP rfl rfl rfl ?_; intro wx rx gx; have RG := Lib.hid (RG.out.kept gx (by omega)); have RH := Lib.hid rx; have B := Lib.hid (B.out.grown gx B.out.size (fun j hj => by cases hj; omega)); obtain ⟨y0, y1, y2, y3, y4, y5, y6⟩ := docAt_cells rx; clear rx gx))
      go_step3
      refine ⟨_, HF0.out, ?_⟩
      obtain ⟨x0, x1, x2, x3, x4, x5, x6⟩ := docAt_cells RH.out
      go_wp2_with (first
        | (refine wpList_store_doc1 31 rfl 4 _ _ rfl (w.heap.size + 1) 6 _ ⟨NM, [], SY, true, false, true, false⟩ ⟨NM, [], SY, true, false, true, true⟩ rfl rfl RH.out (by decide) sizeBoolP rfl rfl rfl ?_; intro wx rx gx; have RG := Lib.hid (RG.out.kept gx (by omega)); have RH := Lib.hid rx; have B := Lib.hid (B.out.grown gx B.out.size (fun j hj => by cases hj; omega)); obtain ⟨y0, y1, y2, y3, y4, y5, y6⟩ := docAt_cells rx; clear rx gx)
        | (refine wpList_load_doc 31 rfl _ rfl (w.heap.size + 1) ⟨NM, [], SY, true, false, true, true⟩ _ rfl RH.out Try.underlying31 rfl sizeDocP ?_)
        | (refine wpList_store_doc 31 rfl _ _ rfl w.heap.size ⟨NM, [], SY, true, false, true, true⟩ doc0 rfl rfl RG.out sizeDocP ?_; intro wy ry gy))
      rw [hops_ret]
      refine bodyPost_ret (results_cell_row rfl _ _ w.heap.size 31 (docCells ⟨NM, [], SY, true, false, true, true⟩) (0, 0) _ rfl ry Try.underlying31 rfl sizeDocP) rfl ?_
      exact ⟨by rw [HV.out]; rfl, B.out.grown gy B.out.size (fun j hj => by cases hj; exact Nat.le_refl _)⟩
    rw [show (!(x8 :: z8 : Txt).isEmpty) = true from rfl] at HI8
    have HV6 := Lib.hid (HV5.out.trans (P2.out x8 z8 rfl))
    have lR9 : R9.data.toList = z8 := lR9
    have hz9 : R9.size ≤ 1048576 := by rw [Lib.size_eq, lR9]; exact HZR9.out
    have HB9 := fun w => Lib.hid (bs_list R9 _ lR9 w hz9)
    obtain ⟨R10, eR10⟩ : ∃ R : ByteArray, ⟨(z8.dropWhile spaB).toArray⟩ = R := ⟨_, rfl⟩
    have lR10 : R10.data.toList = z8.dropWhile spaB := by rw [← eR10]
    rw [eR10] at HB9
    clear eR10
    by_cases h10 : z8.dropWhile spaB = []
    · have HV := Lib.hid (HV6.out.trans (show _ = ⟨NM, [], SY, true, false, true, (!ended)⟩ by rw [h10]; rfl))
      rw [h10] at lR10
      obtain rfl := no_text R10 lR10
      clear h10 lR10 lR9 hz9
      go_wp2_with (fail)
      refine (HI8 _).out.mono ?_
      rintro e wi8 ⟨rfl, bi8⟩
      have RG := Lib.hid (RG.out.below bi8)
      have RH := Lib.hid (RH.out.below bi8)
      have B := Lib.hid (B.out.trans (Below.mono bi8 B.out.size))
      clear bi8
      obtain ⟨x0, x1, x2, x3, x4, x5, x6⟩ := docAt_cells RH.out
      go_wp2_with (first
        | (refine wpList_store_doc1 31 rfl 9 _ _ rfl (w.heap.size + 1) 2 _ ⟨NM, [], [], true, false, false, false⟩ ⟨NM, [], SY, true, false, false, false⟩ rfl rfl RH.out (by decide) sizeStrP rfl rfl rfl ?_; intro wx rx gx; have RG := Lib.hid (RG.out.kept gx (by omega)); have RH := Lib.hid rx; have B := Lib.hid (B.out.grown gx B.out.size (fun j hj => by cases hj; omega)); obtain ⟨y0, y1, y2, y3, y4, y5, y6⟩ := docAt_cells rx; clear rx gx)
        | (refine wpList_store_doc1 31 rfl 4 _ _ rfl (w.heap.size + 1) 5 _ ⟨NM, [], SY, true, false, false, false⟩ ⟨NM, [], SY, true, false, true, false⟩ rfl rfl RH.out (by decide) sizeBoolP rfl rfl rfl ?_; intro wx rx gx; have RG := Lib.hid (RG.out.kept gx (by omega)); have RH := Lib.hid rx; have B := Lib.hid (B.out.grown gx B.out.size (fun j hj => by cases hj; omega)); obtain ⟨y0, y1, y2, y3, y4, y5, y6⟩ := docAt_cells rx; clear rx gx))
      refine (HB9 _).out.mono ?_
      rintro e wb9 ⟨rfl, rfl⟩
      go_wp2_with (fail)
      go_step3
      obtain ⟨x0, x1, x2, x3, x4, x5, x6⟩ := docAt_cells RH.out
      go_wp2_with (first
        | (refine wpList_store_doc1 31 rfl 4 _ _ rfl (w.heap.size + 1) 6 _ ⟨NM, [], SY, true, false, true, false⟩ ⟨NM, [], SY, true, false, true, (!ended)⟩ rfl rfl RH.out (by decide) sizeBoolP rfl rfl rfl ?_; intro wx rx gx; have RG := Lib.hid (RG.out.kept gx (by omega)); have RH := Lib.hid rx; have B := Lib.hid (B.out.grown gx B.out.size (fun j hj => by cases hj; omega)); obtain ⟨y0, y1, y2, y3, y4, y5, y6⟩ := docAt_cells rx; clear rx gx)
        | (refine wpList_load_doc 31 rfl _ rfl (w.heap.size + 1) ⟨NM, [], SY, true, false, true, (!ended)⟩ _ rfl RH.out Try.underlying31 rfl sizeDocP ?_)
        | (refine wpList_store_doc 31 rfl _ _ rfl w.heap.size ⟨NM, [], SY, true, false, true, (!ended)⟩ doc0 rfl rfl RG.out sizeDocP ?_; intro wy ry gy))
      rw [hops_ret]
      refine bodyPost_ret (results_cell_row rfl _ _ w.heap.size 31 (docCells ⟨NM, [], SY, true, false, true, (!ended)⟩) (0, 0) _ rfl ry Try.underlying31 rfl sizeDocP) rfl ?_
      exact ⟨by rw [HV.out]; rfl, B.out.grown gy B.out.size (fun j hj => by cases hj; exact Nat.le_refl _)⟩
    have HV := Lib.hid (HV6.out.trans (show _ = ⟨NM, [], SY, true, false, true, false⟩ by
      rw [show (z8.dropWhile spaB).isEmpty = false by
        cases h : z8.dropWhile spaB with
        | nil => exact absurd h h10
        | cons a l => rfl]; rfl))
    obtain ⟨n10, m10⟩ := some_text R10 (by rw [lR10]; exact h10)
    clear h10 lR10 lR9 hz9
    go_wp2_with (fail)
    refine (HI8 _).out.mono ?_
    rintro e wi8 ⟨rfl, bi8⟩
    have RG := Lib.hid (RG.out.below bi8)
    have RH := Lib.hid (RH.out.below bi8)
    have B := Lib.hid (B.out.trans (Below.mono bi8 B.out.size))
    clear bi8
    obtain ⟨x0, x1, x2, x3, x4, x5, x6⟩ := docAt_cells RH.out
    go_wp2_with (first
      | (refine wpList_store_doc1 31 rfl 9 _ _ rfl (w.heap.size + 1) 2 _ ⟨NM, [], [], true, false, false, false⟩ ⟨NM, [], SY, true, false, false, false⟩ rfl rfl RH.out (by decide) sizeStrP rfl rfl rfl ?_; intro wx rx gx; have RG := Lib.hid (RG.out.kept gx (by omega)); have RH := Lib.hid rx; have B := Lib.hid (B.out.grown gx B.out.size (fun j hj => by cases hj; omega)); obtain ⟨y0, y1, y2, y3, y4, y5, y6⟩ := docAt_cells rx; clear rx gx)
      | (refine wpList_store_doc1 31 rfl 4 _ _ rfl (w.heap.size + 1) 5 _ ⟨NM, [], SY, true, false, false, false⟩ ⟨NM, [], SY, true, false, true, false⟩ rfl rfl RH.out (by decide) sizeBoolP rfl rfl rfl ?_; intro wx rx gx; have RG := Lib.hid (RG.out.kept gx (by omega)); have RH := Lib.hid rx; have B := Lib.hid (B.out.grown gx B.out.size (fun j hj => by cases hj; omega)); obtain ⟨y0, y1, y2, y3, y4, y5, y6⟩ := docAt_cells rx; clear rx gx))
    refine (HB9 _).out.mono ?_
    rintro e wb9 ⟨rfl, rfl⟩
    obtain ⟨x0, x1, x2, x3, x4, x5, x6⟩ := docAt_cells RH.out
    go_wp2_with (first
      | (refine wpList_load_doc 31 rfl _ rfl (w.heap.size + 1) ⟨NM, [], SY, true, false, true, false⟩ _ rfl RH.out Try.underlying31 rfl sizeDocP ?_)
      | (refine wpList_store_doc 31 rfl _ _ rfl w.heap.size ⟨NM, [], SY, true, false, true, false⟩ doc0 rfl rfl RG.out sizeDocP ?_; intro wy ry gy))
    rw [hops_ret]
    refine bodyPost_ret (results_cell_row rfl _ _ w.heap.size 31 (docCells ⟨NM, [], SY, true, false, true, false⟩) (0, 0) _ rfl ry Try.underlying31 rfl sizeDocP) rfl ?_
    exact ⟨by rw [HV.out]; rfl, B.out.grown gy B.out.size (fun j hj => by cases hj; exact Nat.le_refl _)⟩
  have HV3 := Lib.hid (show parseD s.data.toList ended = st3 ⟨NM, [], [], true, false, false, false⟩ ended d3 from HV2.out)
  have hl6 : (6 : Int) ≤ (R2.size : Int) := by have := H6.out (.inl rfl); omega
  have hz4 : R3.size ≤ 1048576 := by rw [Lib.size_eq, lR3]; exact HZR3.out
  have HB4 := fun w => Lib.hid (bs_list R3 _ lR3 w hz4)
  obtain ⟨R4, eR4⟩ : ∃ R : ByteArray, ⟨(d3.dropWhile spaB).toArray⟩ = R := ⟨_, rfl⟩
  have lR4 : R4.data.toList = d3.dropWhile spaB := by rw [← eR4]
  rw [eR4] at HB4
  clear eR4
  have HZR4 : Hid (R4.data.toList.length ≤ 1048576) := Lib.hid (by rw [lR4]; exact Nat.le_trans (dw_len _ _) HZR3.out)
  have HQ4 := fun w => Lib.hid (q_list R4 _ lR4 w)
  have hno := st3_no ⟨NM, [], [], true, false, false, false⟩ ended d3
  have hye := any_head (d3.dropWhile spaB)
  have hys := fun c t h q => st3_yes ⟨NM, [], [], true, false, false, false⟩ ended d3 c t h q
  obtain ⟨q4, hq4⟩ : ∃ b, (d3.dropWhile spaB).head?.any quoB = b := ⟨_, rfl⟩
  rw [hq4] at HQ4 hno hye
  have HNO := Lib.hid hno
  have HYE := Lib.hid hye
  have HYS := Lib.hid hys
  have LR4 := Lib.hid lR4
  clear hno hye hys hq4 lR4 hz4 lR3
  go_wp2_with (fail)
  go_step3
  refine ⟨_, HF2.out, ?_⟩
  rw [HR3.out]
  go_wp2_with (fail)
  refine (HB4 _).out.mono ?_
  rintro e wb4 ⟨rfl, rfl⟩
  go_wp2_with (fail)
  refine (HQ4 _).out.mono ?_
  rintro e wq4 ⟨rfl, rfl⟩
  cases q4
  · have HV := Lib.hid (HV3.out.trans (HNO.out rfl))
    go_wp2_with (fail)
    go_step3
    refine ⟨_, HF0.out, ?_⟩
    obtain ⟨x0, x1, x2, x3, x4, x5, x6⟩ := docAt_cells RH.out
    go_wp2_with (first
      | (refine wpList_store_doc1 31 rfl 4 _ _ rfl (w.heap.size + 1) 6 _ ⟨NM, [], [], true, false, false, false⟩ ⟨NM, [], [], true, false, false, true⟩ rfl rfl RH.out (by decide) sizeBoolP rfl rfl rfl ?_; intro wx rx gx; have RG := Lib.hid (RG.out.kept gx (by omega)); have RH := Lib.hid rx; have B := Lib.hid (B.out.grown gx B.out.size (fun j hj => by cases hj; omega)); obtain ⟨y0, y1, y2, y3, y4, y5, y6⟩ := docAt_cells rx; clear rx gx)
      | (refine wpList_load_doc 31 rfl _ rfl (w.heap.size + 1) ⟨NM, [], [], true, false, false, true⟩ _ rfl RH.out Try.underlying31 rfl sizeDocP ?_)
      | (refine wpList_store_doc 31 rfl _ _ rfl w.heap.size ⟨NM, [], [], true, false, false, true⟩ doc0 rfl rfl RG.out sizeDocP ?_; intro wy ry gy))
    rw [hops_ret]
    refine bodyPost_ret (results_cell_row rfl _ _ w.heap.size 31 (docCells ⟨NM, [], [], true, false, false, true⟩) (0, 0) _ rfl ry Try.underlying31 rfl sizeDocP) rfl ?_
    exact ⟨by rw [HV.out]; rfl, B.out.grown gy B.out.size (fun j hj => by cases hj; exact Nat.le_refl _)⟩
  obtain ⟨c4, t4, hl4, hc4⟩ := HYE.out rfl
  have lR4 := LR4.out.trans hl4
  obtain ⟨p1, p2⟩ := HYS.out c4 t4 hl4 hc4
  have HI4 := fun w => Lib.hid (inQuotes_any R4 c4 t4 w (by rw [Lib.size_eq]; exact HZR4.out) lR4)
  have hz5 : ((t4.dropWhile (· != c4)).tail).length ≤ 1048576 := by
    have h1 := dw_len (· != c4) t4
    have h2 := HZR4.out
    rw [lR4, List.length_cons] at h2
    rw [List.length_tail]; omega
  obtain ⟨PB, hPB⟩ : ∃ X, cleanL (t4.takeWhile (· != c4)) = X := ⟨_, rfl⟩
  rw [hPB] at HI4 p1 p2
  have HZR5 := Lib.hid hz5
  obtain ⟨R5, eR5⟩ : ∃ R : ByteArray, ⟨((t4.dropWhile (· != c4)).tail).toArray⟩ = R := ⟨_, rfl⟩
  have lR5 : R5.data.toList = (t4.dropWhile (· != c4)).tail := by rw [← eR5]
  rw [eR5] at HI4
  clear eR5
  obtain ⟨W4, hW4⟩ : ∃ X, t4.dropWhile (· != c4) = X := ⟨_, rfl⟩
  rw [hW4] at HI4 p1 p2 lR5 HZR5
  have P1 := Lib.hid p1
  have P2 := Lib.hid p2
  clear p1 p2 hPB hW4 hl4 hc4 lR4 hz5
  rcases W4 with _ | ⟨x4, z4⟩
  · have HV := Lib.hid (HV3.out.trans (P1.out rfl))
    clear HZR5 lR5
    rw [show (!([] : Txt).isEmpty) = false from rfl] at HI4
    go_wp2_with (fail)
    refine (HI4 _).out.mono ?_
    rintro e wi4 ⟨rfl, bi4⟩
    have RG := Lib.hid (RG.out.below bi4)
    have RH := Lib.hid (RH.out.below bi4)
    have B := Lib.hid (B.out.trans (Below.mono bi4 B.out.size))
    clear bi4
    obtain ⟨x0, x1, x2, x3, x4, x5, x6⟩ := docAt_cells RH.out
    go_wp2_with (first
      | (refine wpList_store_doc1 31 rfl 9 _ _ rfl (w.heap.size + 1) 1 _ ⟨NM, [], [], true, false, false, false⟩ ⟨NM, PB, [], true, false, false, false⟩ rfl rfl RH.out (by decide) sizeStrP rfl rfl rfl ?_; intro wx rx gx; have RG := Lib.hid (RG.out.kept gx (by omega)); have RH := Lib.hid rx; have B := Lib.hid (B.out.grown gx B.out.size (fun j hj => by cases hj; omega)); obtain ⟨y0, y1, y2, y3, y4, y5, y6⟩ := docAt_cells rx; clear rx gx)
      | (refine wpList_store_doc1 31 rfl 4 _ _ rfl (w.heap.size + 1) 4 _ ⟨NM, PB, [], true, false, false, false⟩ ⟨NM, PB, [], true, true, false, false⟩ rfl rfl RH.out (by decide) sizeBoolP rfl rfl rfl ?_; intro wx rx gx; have RG := Lib.hid (RG.out.kept gx (by omega)); have RH := Lib.hid rx; have B := Lib.hid (B.out.grown gx B.out.size (fun j hj => by cases hj; omega)); obtain ⟨y0, y1, y2, y3, y4, y5, y6⟩ := docAt_cells rx; clear rx gx))
    go_step3
    refine ⟨_, HF0.out, ?_⟩
    obtain ⟨x0, x1, x2, x3, x4, x5, x6⟩ := docAt_cells RH.out
    go_wp2_with (first
      | (refine wpList_store_doc1 31 rfl 4 _ _ rfl (w.heap.size + 1) 6 _ ⟨NM, PB, [], true, true, false, false⟩ ⟨NM, PB, [], true, true, false, true⟩ rfl rfl RH.out (by decide) sizeBoolP rfl rfl rfl ?_; intro wx rx gx; have RG := Lib.hid (RG.out.kept gx (by omega)); have RH := Lib.hid rx; have B := Lib.hid (B.out.grown gx B.out.size (fun j hj => by cases hj; omega)); obtain ⟨y0, y1, y2, y3, y4, y5, y6⟩ := docAt_cells rx; clear rx gx)
      | (refine wpList_load_doc 31 rfl _ rfl (w.heap.size + 1) ⟨NM, PB, [], true, true, false, true⟩ _ rfl RH.out Try.underlying31 rfl sizeDocP ?_)
      | (refine wpList_store_doc 31 rfl _ _ rfl w.heap.size ⟨NM, PB, [], true, true, false, true⟩ doc0 rfl rfl RG.out sizeDocP ?_; intro wy ry gy))
    rw [hops_ret]
    refine bodyPost_ret (results_cell_row rfl _ _ w.heap.size 31 (docCells ⟨NM, PB, [], true, true, false, true⟩) (0, 0) _ rfl ry Try.underlying31 rfl sizeDocP) rfl ?_
    exact ⟨by rw [HV.out]; rfl, B.out.grown gy B.out.size (fun j hj => by cases hj; exact Nat.le_refl _)⟩
  rw [show (!(x4 :: z4 : Txt).isEmpty) = true from rfl] at HI4
  have lR5 : R5.data.toList = z4 := lR5
  have hz5 : R5.size ≤ 1048576 := by rw [Lib.size_eq, lR5]; exact HZR5.out
  have HB5 := fun w => Lib.hid (bs_list R5 _ lR5 w hz5)
  obtain ⟨r1, r2⟩ := P2.out x4 z4 rfl
  have hz6 : (z4.dropWhile spaB).length ≤ 1048576 := Nat.le_trans (dw_len _ _) HZR5.out
  obtain ⟨R6, eR6⟩ : ∃ R : ByteArray, ⟨(z4.dropWhile spaB).toArray⟩ = R := ⟨_, rfl⟩
  have lR6 : R6.data.toList = z4.dropWhile spaB := by rw [← eR6]
  rw [eR6] at HB5
  clear eR6
  by_cases h6 : z4.dropWhile spaB = []
  · have HV := Lib.hid (HV3.out.trans (r1 h6))
    rw [h6] at lR6
    obtain rfl := no_text R6 lR6
    clear h6 lR6 lR5 hz5 r1 r2 hz6
    go_wp2_with (fail)
    refine (HI4 _).out.mono ?_
    rintro e wi4 ⟨rfl, bi4⟩
    have RG := Lib.hid (RG.out.below bi4)
    have RH := Lib.hid (RH.out.below bi4)
    have B := Lib.hid (B.out.trans (Below.mono bi4 B.out.size))
    clear bi4
    obtain ⟨x0, x1, x2, x3, x4, x5, x6⟩ := docAt_cells RH.out
    go_wp2_with (first
      | (refine wpList_store_doc1 31 rfl 9 _ _ rfl (w.heap.size + 1) 1 _ ⟨NM, [], [], true, false, false, false⟩ ⟨NM, PB, [], true, false, false, false⟩ rfl rfl RH.out (by decide) sizeStrP rfl rfl rfl ?_; intro wx rx gx; have RG := Lib.hid (RG.out.kept gx (by omega)); have RH := Lib.hid rx; have B := Lib.hid (B.out.grown gx B.out.size (fun j hj => by cases hj; omega)); obtain ⟨y0, y1, y2, y3, y4, y5, y6⟩ := docAt_cells rx; clear rx gx)
      | (refine wpList_store_doc1 31 rfl 4 _ _ rfl (w.heap.size + 1) 4 _ ⟨NM, PB, [], true, false, false, false⟩ ⟨NM, PB, [], true, true, false, false⟩ rfl rfl RH.out (by decide) sizeBoolP rfl rfl rfl ?_; intro wx rx gx; have RG := Lib.hid (RG.out.kept gx (by omega)); have RH := Lib.hid rx; have B := Lib.hid (B.out.grown gx B.out.size (fun j hj => by cases hj; omega)); obtain ⟨y0, y1, y2, y3, y4, y5, y6⟩ := docAt_cells rx; clear rx gx))
    refine (HB5 _).out.mono ?_
    rintro e wb5 ⟨rfl, rfl⟩
    go_wp2_with (fail)
    go_step3
    refine ⟨_, HF1.out, ?_⟩
    obtain ⟨x0, x1, x2, x3, x4, x5, x6⟩ := docAt_cells RH.out
    go_wp2_with (first
      | (refine wpList_store_doc1 31 rfl 4 _ _ rfl (w.heap.size + 1) 6 _ ⟨NM, PB, [], true, true, false, false⟩ ⟨NM, PB, [], true, true, false, (!ended)⟩ rfl rfl RH.out (by decide) sizeBoolP rfl rfl rfl ?_; intro wx rx gx; have RG := Lib.hid (RG.out.kept gx (by omega)); have RH := Lib.hid rx; have B := Lib.hid (B.out.grown gx B.out.size (fun j hj => by cases hj; omega)); obtain ⟨y0, y1, y2, y3, y4, y5, y6⟩ := docAt_cells rx; clear rx gx)
      | (refine wpList_load_doc 31 rfl _ rfl (w.heap.size + 1) ⟨NM, PB, [], true, true, false, (!ended)⟩ _ rfl RH.out Try.underlying31 rfl sizeDocP ?_)
      | (refine wpList_store_doc 31 rfl _ _ rfl w.heap.size ⟨NM, PB, [], true, true, false, (!ended)⟩ doc0 rfl rfl RG.out sizeDocP ?_; intro wy ry gy))
    rw [hops_ret]
    refine bodyPost_ret (results_cell_row rfl _ _ w.heap.size 31 (docCells ⟨NM, PB, [], true, true, false, (!ended)⟩) (0, 0) _ rfl ry Try.underlying31 rfl sizeDocP) rfl ?_
    exact ⟨by rw [HV.out]; rfl, B.out.grown gy B.out.size (fun j hj => by cases hj; exact Nat.le_refl _)⟩
  have HV0 := Lib.hid (HV3.out.trans (r2 h6))
  obtain ⟨n6, m6⟩ := some_text R6 (by rw [lR6]; exact h6)
  have HZR6 := Lib.hid hz6
  clear h6 lR5 hz5 r1 r2 hz6
  go_wp2_with (fail)
  refine (HI4 _).out.mono ?_
  rintro e wi4 ⟨rfl, bi4⟩
  have RG := Lib.hid (RG.out.below bi4)
  have RH := Lib.hid (RH.out.below bi4)
  have B := Lib.hid (B.out.trans (Below.mono bi4 B.out.size))
  clear bi4
  obtain ⟨x0, x1, x2, x3, x4, x5, x6⟩ := docAt_cells RH.out
  go_wp2_with (first
    | (refine wpList_store_doc1 31 rfl 9 _ _ rfl (w.heap.size + 1) 1 _ ⟨NM, [], [], true, false, false, false⟩ ⟨NM, PB, [], true, false, false, false⟩ rfl rfl RH.out (by decide) sizeStrP rfl rfl rfl ?_; intro wx rx gx; have RG := Lib.hid (RG.out.kept gx (by omega)); have RH := Lib.hid rx; have B := Lib.hid (B.out.grown gx B.out.size (fun j hj => by cases hj; omega)); obtain ⟨y0, y1, y2, y3, y4, y5, y6⟩ := docAt_cells rx; clear rx gx)
    | (refine wpList_store_doc1 31 rfl 4 _ _ rfl (w.heap.size + 1) 4 _ ⟨NM, PB, [], true, false, false, false⟩ ⟨NM, PB, [], true, true, false, false⟩ rfl rfl RH.out (by decide) sizeBoolP rfl rfl rfl ?_; intro wx rx gx; have RG := Lib.hid (RG.out.kept gx (by omega)); have RH := Lib.hid rx; have B := Lib.hid (B.out.grown gx B.out.size (fun j hj => by cases hj; omega)); obtain ⟨y0, y1, y2, y3, y4, y5, y6⟩ := docAt_cells rx; clear rx gx))
  refine (HB5 _).out.mono ?_
  rintro e wb5 ⟨rfl, rfl⟩
  clear x0 x1 x2 x3 x4 x5 x6
  go_wp2_with (fail)
  go_step3
  have hz8 : R6.size ≤ 1048576 := by rw [Lib.size_eq, lR6]; exact HZR6.out
  have HB8 := fun w => Lib.hid (bs_list R6 _ lR6 w hz8)
  obtain ⟨R8, eR8⟩ : ∃ R : ByteArray, ⟨((z4.dropWhile spaB).dropWhile spaB).toArray⟩ = R := ⟨_, rfl⟩
  have lR8 : R8.data.toList = (z4.dropWhile spaB).dropWhile spaB := by rw [← eR8]
  rw [eR8] at HB8
  clear eR8
  have HZR8 : Hid (R8.data.toList.length ≤ 1048576) := Lib.hid (by rw [lR8]; exact Nat.le_trans (dw_len _ _) HZR6.out)
  have HQ8 := fun w => Lib.hid (q_list R8 _ lR8 w)
  have hno := st4_no ⟨NM, PB, [], true, true, false, false⟩ ended (z4.dropWhile spaB)
  have hye := any_head ((z4.dropWhile spaB).dropWhile spaB)
  have hys := fun c t h q => st4_yes ⟨NM, PB, [], true, true, false, false⟩ ended (z4.dropWhile spaB) c t h q
  obtain ⟨q8, hq8⟩ : ∃ b, ((z4.dropWhile spaB).dropWhile spaB).head?.any quoB = b := ⟨_, rfl⟩
  rw [hq8] at HQ8 hno hye
  have HNO := Lib.hid hno
  have HYE := Lib.hid hye
  have HYS := Lib.hid hys
  have LR8 := Lib.hid lR8
  clear hno hye hys hq8 lR8 hz8
  go_wp2_with (fail)
  refine (HB8 _).out.mono ?_
  rintro e wb8 ⟨rfl, rfl⟩
  go_wp2_with (fail)
  refine (HQ8 _).out.mono ?_
  rintro e wq8 ⟨rfl, rfl⟩
  cases q8
  · have HV := Lib.hid (HV0.out.trans (HNO.out rfl))
    go_wp2_with (fail)
    go_step3
    refine ⟨_, HF0.out, ?_⟩
    obtain ⟨x0, x1, x2, x3, x4, x5, x6⟩ := docAt_cells RH.out
    go_wp2_with (first
      | (refine wpList_store_doc1 31 rfl 4 _ _ rfl (w.heap.size + 1) 6 _ ⟨NM, PB, [], true, true, false, false⟩ ⟨NM, PB, [], true, true, false, true⟩ rfl rfl RH.out (by decide) sizeBoolP rfl rfl rfl ?_; intro wx rx gx; have RG := Lib.hid (RG.out.kept gx (by omega)); have RH := Lib.hid rx; have B := Lib.hid (B.out.grown gx B.out.size (fun j hj => by cases hj; omega)); obtain ⟨y0, y1, y2, y3, y4, y5, y6⟩ := docAt_cells rx; clear rx gx)
      | (refine wpList_load_doc 31 rfl _ rfl (w.heap.size + 1) ⟨NM, PB, [], true, true, false, true⟩ _ rfl RH.out Try.underlying31 rfl sizeDocP ?_)
      | (refine wpList_store_doc 31 rfl _ _ rfl w.heap.size ⟨NM, PB, [], true, true, false, true⟩ doc0 rfl rfl RG.out sizeDocP ?_; intro wy ry gy))
    rw [hops_ret]
    refine bodyPost_ret (results_cell_row rfl _ _ w.heap.size 31 (docCells ⟨NM, PB, [], true, true, false, true⟩) (0, 0) _ rfl ry Try.underlying31 rfl sizeDocP) rfl ?_
    exact ⟨by rw [HV.out]; rfl, B.out.grown gy B.out.size (fun j hj => by cases hj; exact Nat.le_refl _)⟩
  obtain ⟨c8, t8, hl8, hc8⟩ := HYE.out rfl
  have HV5 := HV0.out.trans (HYS.out c8 t8 hl8 hc8)
  have lR8 := LR8.out.trans hl8
  obtain ⟨p1, p2⟩ := st5_told ⟨NM, PB, [], true, true, false, false⟩ ended c8 t8
  have HI8 := fun w => Lib.hid (inQuotes_any R8 c8 t8 w (by rw [Lib.size_eq]; exact HZR8.out) lR8)
  have hz9 : ((t8.dropWhile (· != c8)).tail).length ≤ 1048576 := by
    have h1 := dw_len (· != c8) t8
    have h2 := HZR8.out
    rw [lR8, List.length_cons] at h2
    rw [List.length_tail]; omega
  obtain ⟨SY, hSY⟩ : ∃ X, cleanL (t8.takeWhile (· != c8)) = X := ⟨_, rfl⟩
  rw [hSY] at HI8 p1 p2
  have HZR9 := Lib.hid hz9
  obtain ⟨R9, eR9⟩ : ∃ R : ByteArray, ⟨((t8.dropWhile (· != c8)).tail).toArray⟩ = R := ⟨_, rfl⟩
  have lR9 : R9.data.toList = (t8.dropWhile (· != c8)).tail := by rw [← eR9]
  rw [eR9] at HI8
  clear eR9
  obtain ⟨W8, hW8⟩ : ∃ X, t8.dropWhile (· != c8) = X := ⟨_, rfl⟩
  rw [hW8] at HI8 p1 p2 lR9 HZR9
  have P1 := Lib.hid p1
  have P2 := Lib.hid p2
  have HV5 := Lib.hid HV5
  clear p1 p2 hSY hW8 hl8 hc8 lR8 hz9
  rcases W8 with _ | ⟨x8, z8⟩
  · have HV := Lib.hid (HV5.out.trans (P1.out rfl))
    clear HZR9 lR9
    rw [show (!([] : Txt).isEmpty) = false from rfl] at HI8
    go_wp2_with (fail)
    refine (HI8 _).out.mono ?_
    rintro e wi8 ⟨rfl, bi8⟩
    have RG := Lib.hid (RG.out.below bi8)
    have RH := Lib.hid (RH.out.below bi8)
    have B := Lib.hid (B.out.trans (Below.mono bi8 B.out.size))
    clear bi8
    obtain ⟨x0, x1, x2, x3, x4, x5, x6⟩ := docAt_cells RH.out
    go_wp2_with (first
      | (refine wpList_store_doc1 31 rfl 9 _ _ rfl (w.heap.size + 1) 2 _ ⟨NM, PB, [], true, true, false, false⟩ ⟨NM, PB, SY, true, true, false, false⟩ rfl rfl RH.out (by decide) sizeStrP rfl rfl rfl ?_; intro wx rx gx; have RG := Lib.hid (RG.out.kept gx (by omega)); have RH := Lib.hid rx; have B := Lib.hid (B.out.grown gx B.out.size (fun j hj => by cases hj; omega)); obtain ⟨y0, y1, y2, y3, y4, y5, y6⟩ := docAt_cells rx; clear rx gx)
      | (refine wpList_store_doc1 31 rfl 4 _ _ rfl (w.heap.size + 1) 5 _ ⟨NM, PB, SY, true, true, false, false⟩ ⟨NM, PB, SY, true, true, true, false⟩ rfl rfl RH.out (by decide) sizeBoolP rfl rfl rfl ?_; intro wx rx gx; have RG := Lib.hid (RG.out.kept gx (by omega)); have RH := Lib.hid rx; have B := Lib.hid (B.out.grown gx B.out.size (fun j hj => by cases hj; omega)); obtain ⟨y0, y1, y2, y3, y4, y5, y6⟩ := docAt_cells rx; clear rx gx))
    go_step3
    refine ⟨_, HF0.out, ?_⟩
    obtain ⟨x0, x1, x2, x3, x4, x5, x6⟩ := docAt_cells RH.out
    go_wp2_with (first
      | (refine wpList_store_doc1 31 rfl 4 _ _ rfl (w.heap.size + 1) 6 _ ⟨NM, PB, SY, true, true, true, false⟩ ⟨NM, PB, SY, true, true, true, true⟩ rfl rfl RH.out (by decide) sizeBoolP rfl rfl rfl ?_; intro wx rx gx; have RG := Lib.hid (RG.out.kept gx (by omega)); have RH := Lib.hid rx; have B := Lib.hid (B.out.grown gx B.out.size (fun j hj => by cases hj; omega)); obtain ⟨y0, y1, y2, y3, y4, y5, y6⟩ := docAt_cells rx; clear rx gx)
      | (refine wpList_load_doc 31 rfl _ rfl (w.heap.size + 1) ⟨NM, PB, SY, true, true, true, true⟩ _ rfl RH.out Try.underlying31 rfl sizeDocP ?_)
      | (refine wpList_store_doc 31 rfl _ _ rfl w.heap.size ⟨NM, PB, SY, true, true, true, true⟩ doc0 rfl rfl RG.out sizeDocP ?_; intro wy ry gy))
    rw [hops_ret]
    refine bodyPost_ret (results_cell_row rfl _ _ w.heap.size 31 (docCells ⟨NM, PB, SY, true, true, true, true⟩) (0, 0) _ rfl ry Try.underlying31 rfl sizeDocP) rfl ?_
    exact ⟨by rw [HV.out]; rfl, B.out.grown gy B.out.size (fun j hj => by cases hj; exact Nat.le_refl _)⟩
  rw [show (!(x8 :: z8 : Txt).isEmpty) = true from rfl] at HI8
  have HV6 := Lib.hid (HV5.out.trans (P2.out x8 z8 rfl))
  have lR9 : R9.data.toList = z8 := lR9
  have hz9 : R9.size ≤ 1048576 := by rw [Lib.size_eq, lR9]; exact HZR9.out
  have HB9 := fun w => Lib.hid (bs_list R9 _ lR9 w hz9)
  obtain ⟨R10, eR10⟩ : ∃ R : ByteArray, ⟨(z8.dropWhile spaB).toArray⟩ = R := ⟨_, rfl⟩
  have lR10 : R10.data.toList = z8.dropWhile spaB := by rw [← eR10]
  rw [eR10] at HB9
  clear eR10
  by_cases h10 : z8.dropWhile spaB = []
  · have HV := Lib.hid (HV6.out.trans (show _ = ⟨NM, PB, SY, true, true, true, (!ended)⟩ by rw [h10]; rfl))
    rw [h10] at lR10
    obtain rfl := no_text R10 lR10
    clear h10 lR10 lR9 hz9
    go_wp2_with (fail)
    refine (HI8 _).out.mono ?_
    rintro e wi8 ⟨rfl, bi8⟩
    have RG := Lib.hid (RG.out.below bi8)
    have RH := Lib.hid (RH.out.below bi8)
    have B := Lib.hid (B.out.trans (Below.mono bi8 B.out.size))
    clear bi8
    obtain ⟨x0, x1, x2, x3, x4, x5, x6⟩ := docAt_cells RH.out
    go_wp2_with (first
      | (refine wpList_store_doc1 31 rfl 9 _ _ rfl (w.heap.size + 1) 2 _ ⟨NM, PB, [], true, true, false, false⟩ ⟨NM, PB, SY, true, true, false, false⟩ rfl rfl RH.out (by decide) sizeStrP rfl rfl rfl ?_; intro wx rx gx; have RG := Lib.hid (RG.out.kept gx (by omega)); have RH := Lib.hid rx; have B := Lib.hid (B.out.grown gx B.out.size (fun j hj => by cases hj; omega)); obtain ⟨y0, y1, y2, y3, y4, y5, y6⟩ := docAt_cells rx; clear rx gx)
      | (refine wpList_store_doc1 31 rfl 4 _ _ rfl (w.heap.size + 1) 5 _ ⟨NM, PB, SY, true, true, false, false⟩ ⟨NM, PB, SY, true, true, true, false⟩ rfl rfl RH.out (by decide) sizeBoolP rfl rfl rfl ?_; intro wx rx gx; have RG := Lib.hid (RG.out.kept gx (by omega)); have RH := Lib.hid rx; have B := Lib.hid (B.out.grown gx B.out.size (fun j hj => by cases hj; omega)); obtain ⟨y0, y1, y2, y3, y4, y5, y6⟩ := docAt_cells rx; clear rx gx))
    refine (HB9 _).out.mono ?_
    rintro e wb9 ⟨rfl, rfl⟩
    go_wp2_with (fail)
    go_step3
    obtain ⟨x0, x1, x2, x3, x4, x5, x6⟩ := docAt_cells RH.out
    go_wp2_with (first
      | (refine wpList_store_doc1 31 rfl 4 _ _ rfl (w.heap.size + 1) 6 _ ⟨NM, PB, SY, true, true, true, false⟩ ⟨NM, PB, SY, true, true, true, (!ended)⟩ rfl rfl RH.out (by decide) sizeBoolP rfl rfl rfl ?_; intro wx rx gx; have RG := Lib.hid (RG.out.kept gx (by omega)); have RH := Lib.hid rx; have B := Lib.hid (B.out.grown gx B.out.size (fun j hj => by cases hj; omega)); obtain ⟨y0, y1, y2, y3, y4, y5, y6⟩ := docAt_cells rx; clear rx gx)
      | (refine wpList_load_doc 31 rfl _ rfl (w.heap.size + 1) ⟨NM, PB, SY, true, true, true, (!ended)⟩ _ rfl RH.out Try.underlying31 rfl sizeDocP ?_)
      | (refine wpList_store_doc 31 rfl _ _ rfl w.heap.size ⟨NM, PB, SY, true, true, true, (!ended)⟩ doc0 rfl rfl RG.out sizeDocP ?_; intro wy ry gy))
    rw [hops_ret]
    refine bodyPost_ret (results_cell_row rfl _ _ w.heap.size 31 (docCells ⟨NM, PB, SY, true, true, true, (!ended)⟩) (0, 0) _ rfl ry Try.underlying31 rfl sizeDocP) rfl ?_
    exact ⟨by rw [HV.out]; rfl, B.out.grown gy B.out.size (fun j hj => by cases hj; exact Nat.le_refl _)⟩
  have HV := Lib.hid (HV6.out.trans (show _ = ⟨NM, PB, SY, true, true, true, false⟩ by
    rw [show (z8.dropWhile spaB).isEmpty = false by
      cases h : z8.dropWhile spaB with
      | nil => exact absurd h h10
      | cons a l => rfl]; rfl))
  obtain ⟨n10, m10⟩ := some_text R10 (by rw [lR10]; exact h10)
  clear h10 lR10 lR9 hz9
  go_wp2_with (fail)
  refine (HI8 _).out.mono ?_
  rintro e wi8 ⟨rfl, bi8⟩
  have RG := Lib.hid (RG.out.below bi8)
  have RH := Lib.hid (RH.out.below bi8)
  have B := Lib.hid (B.out.trans (Below.mono bi8 B.out.size))
  clear bi8
  obtain ⟨x0, x1, x2, x3, x4, x5, x6⟩ := docAt_cells RH.out
  go_wp2_with (first
    | (refine wpList_store_doc1 31 rfl 9 _ _ rfl (w.heap.size + 1) 2 _ ⟨NM, PB, [], true, true, false, false⟩ ⟨NM, PB, SY, true, true, false, false⟩ rfl rfl RH.out (by decide) sizeStrP rfl rfl rfl ?_; intro wx rx gx; have RG := Lib.hid (RG.out.kept gx (by omega)); have RH := Lib.hid rx; have B := Lib.hid (B.out.grown gx B.out.size (fun j hj => by cases hj; omega)); obtain ⟨y0, y1, y2, y3, y4, y5, y6⟩ := docAt_cells rx; clear rx gx)
    | (refine wpList_store_doc1 31 rfl 4 _ _ rfl (w.heap.size + 1) 5 _ ⟨NM, PB, SY, true, true, false, false⟩ ⟨NM, PB, SY, true, true, true, false⟩ rfl rfl RH.out (by decide) sizeBoolP rfl rfl rfl ?_; intro wx rx gx; have RG := Lib.hid (RG.out.kept gx (by omega)); have RH := Lib.hid rx; have B := Lib.hid (B.out.grown gx B.out.size (fun j hj => by cases hj; omega)); obtain ⟨y0, y1, y2, y3, y4, y5, y6⟩ := docAt_cells rx; clear rx gx))
  refine (HB9 _).out.mono ?_
  rintro e wb9 ⟨rfl, rfl⟩
  obtain ⟨x0, x1, x2, x3, x4, x5, x6⟩ := docAt_cells RH.out
  go_wp2_with (first
    | (refine wpList_load_doc 31 rfl _ rfl (w.heap.size + 1) ⟨NM, PB, SY, true, true, true, false⟩ _ rfl RH.out Try.underlying31 rfl sizeDocP ?_)
    | (refine wpList_store_doc 31 rfl _ _ rfl w.heap.size ⟨NM, PB, SY, true, true, true, false⟩ doc0 rfl rfl RG.out sizeDocP ?_; intro wy ry gy))
  rw [hops_ret]
  refine bodyPost_ret (results_cell_row rfl _ _ w.heap.size 31 (docCells ⟨NM, PB, SY, true, true, true, false⟩) (0, 0) _ rfl ry Try.underlying31 rfl sizeDocP) rfl ?_
  exact ⟨by rw [HV.out]; rfl, B.out.grown gy B.out.size (fun j hj => by cases hj; exact Nat.le_refl _)⟩
end Go.Proofs.Ytbceopiipigljaa
