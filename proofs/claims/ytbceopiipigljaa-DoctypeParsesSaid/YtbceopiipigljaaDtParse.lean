/-
  What the document's Parse of layer 11 answers. (Written by wip/tools/gen_dtparse.py.)
-/
import Derived.Test.YtbceopiipigljaaDtRef
import Derived.Test.YtbceopiipigljaaDtAt
import Derived.Test.YtbceopiipigljaaP3
import Derived.KernelRfl
namespace Go.Proofs.Ytbceopiipigljaa
open Go.RowKit Go.Lib

theorem sizeStr : (Try.prog.info? 9).map (·.size) = some 1 := by kernel_rfl
theorem sizeBool : (Try.prog.info? 4).map (·.size) = some 1 := by kernel_rfl
theorem sizeDoc11 : (Try.prog.info? 33).map (·.size) = some 7 := by kernel_rfl
set_option maxRecDepth 100000 in
set_option maxHeartbeats 16000000 in
theorem refParse_any (s : ByteArray) (ended : Bool) (w : World) (hs : s.size ≤ 1048576) :
    Calls Try.prog 16 #[.string s, .bool ended] w fun e w' => e = .returned (docV (parseD s.data.toList ended)) ∧ Below w.heap.size w w' := by
  have HP0 := fun w => Lib.hid (ref11Pass_any s 0 0 w hs rfl (Nat.zero_le _))
  have HSp := fun (c : UInt8) w => Lib.hid (refSpace ((c.toNat : Nat) : Int) w)
  have hb0 := seek_le spaB s 0 (Nat.zero_le _)
  obtain ⟨i0, hi0⟩ : ∃ i, seekP spaB s.data.toList 0 = i := ⟨_, rfl⟩
  rw [hi0] at HP0 hb0
  obtain ⟨W, hW⟩ : ∃ W, (w.alloc (.cells #[.string ⟨#[]⟩, .string ⟨#[]⟩, .string ⟨#[]⟩, .bool false, .bool false, .bool false, .bool false] 33)).alloc (.cells #[.string ⟨#[]⟩, .string ⟨#[]⟩, .string ⟨#[]⟩, .bool false, .bool false, .bool false, .bool false] 33) = W := ⟨_, rfl⟩
  have RH : Hid (DocAt 33 W (w.heap.size + 1) doc0) := Lib.hid (by
    have := docAt_new 33 (w.alloc (.cells #[.string ⟨#[]⟩, .string ⟨#[]⟩, .string ⟨#[]⟩, .bool false, .bool false, .bool false, .bool false] 33))
    rw [hW] at this
    simpa using this)
  have RG : Hid (DocAt 33 W w.heap.size doc0) := Lib.hid (by
    have := (docAt_new 33 w).below ((Below.refl _ _).alloc (Nat.le_refl _) (.cells #[.string ⟨#[]⟩, .string ⟨#[]⟩, .string ⟨#[]⟩, .bool false, .bool false, .bool false, .bool false] 33))
    rwa [hW] at this)
  have B : Hid (Below w.heap.size w W) := Lib.hid (by rw [← hW]; exact below_two w _ _)
  have HW := Lib.hid hW
  clear hW
  by_cases h0 : i0 = s.size
  · have HV := Lib.hid (parse_blank s ended (hi0.trans h0))
    have b0 : ((i0 : Int) == (s.size : Int)) = true := by rw [h0]; exact beq_self_eq_true _
    have H0 := Lib.hid h0
    clear h0 hi0
    go_enter Try.func16, Try.ntmps16
    go_wp2_with (fail)
    rw [HW.out]
    refine (HP0 _).out.mono ?_
    rintro e wp ⟨rfl, rfl⟩
    obtain ⟨x0, x1, x2, x3, x4, x5, x6⟩ := docAt_cells RH.out
    go_wp2_with (first
      | (refine wpList_store_doc1 33 rfl 4 _ _ rfl (w.heap.size + 1) 6 _ doc0 ⟨[], [], [], false, false, false, true⟩ rfl rfl RH.out (by decide) sizeBool rfl rfl rfl ?_; intro wx rx gx; have RG := Lib.hid (RG.out.kept gx (by omega)); have RH := Lib.hid rx; have B := Lib.hid (B.out.grown gx B.out.size (fun j hj => by cases hj; omega)); obtain ⟨y0, y1, y2, y3, y4, y5, y6⟩ := docAt_cells rx; clear rx gx)
      | (refine wpList_load_doc 33 rfl _ rfl (w.heap.size + 1) ⟨[], [], [], false, false, false, true⟩ _ rfl RH.out Try.underlying33 rfl sizeDoc11 ?_)
      | (refine wpList_store_doc 33 rfl _ _ rfl w.heap.size ⟨[], [], [], false, false, false, true⟩ doc0 rfl rfl RG.out sizeDoc11 ?_; intro wy ry gy))
    refine bodyPost_ret (results_cell_row rfl _ _ w.heap.size 33 (docCells ⟨[], [], [], false, false, false, true⟩) (0, 0) _ rfl ry Try.underlying33 rfl sizeDoc11) rfl ?_
    exact ⟨by rw [HV.out]; rfl, B.out.grown gy B.out.size (fun j hj => by cases hj; exact Nat.le_refl _)⟩
  have hlt0 : i0 < s.size := by omega
  have b0 : ((i0 : Int) == (s.size : Int)) = false := by rw [beq_eq_false_iff_ne]; omega
  obtain ⟨k0, hk0⟩ : ∃ k, seekP (fun c => !spaB c) s.data.toList i0 = k := ⟨_, rfl⟩
  have hbk := seek_le (fun c => !spaB c) s i0 hb0.2
  rw [hk0] at hbk
  have hv0 := parse_name s ended i0 k0 hi0 hlt0 hk0
  have HL := fun w => Lib.hid (refLower (s.extract i0 k0) w (by rw [ByteArray.size_extract]; omega))
  have HCl := fun w => Lib.hid (refClean_any (lowS (s.extract i0 k0)) w (by rw [lowS_size, ByteArray.size_extract]; omega))
  rw [lowS_list] at HCl
  obtain ⟨NM, hNM⟩ : ∃ X, cleanL (lowL (s.extract i0 k0).data.toList) = X := ⟨_, rfl⟩
  rw [hNM] at HCl hv0
  have HVN := Lib.hid hv0
  have HK0 := Lib.hid hk0
  have HP1 := fun w => Lib.hid (ref11Pass_any s ((k0 : Nat) : Int) k0 w hs rfl hbk.2)
  have hb1 := seek_le spaB s k0 hbk.2
  obtain ⟨i1, hi1⟩ : ∃ i, seekP spaB s.data.toList k0 = i := ⟨_, rfl⟩
  rw [hi1] at HP1 hb1
  have HI1 := Lib.hid hi1
  have hik : (i0 : Int) ≤ (k0 : Int) := by omega
  have hks : (k0 : Int) ≤ (s.size : Int) := by omega
  clear hi0 hk0 hNM hv0 h0 hi1
  go_enter Try.func16, Try.ntmps16
  go_wp2_with (fail)
  rw [HW.out]
  refine (HP0 _).out.mono ?_
  rintro e wp ⟨rfl, rfl⟩
  go_wp2
  go_loopw [7] (fun v wr => ∃ k : Nat, v = .int .i64 (k : Int) ∧ wp = wr ∧ k ≤ s.size ∧ i0 ≤ k ∧ Hid (seekP (fun c => !spaB c) s.data.toList k = k0)) (fun v _ => s.size - (intOf v).toNat)
  case atStart => exact ⟨i0, rfl, rfl, hb0.2, Nat.le_refl _, HK0⟩
  case round =>
    obtain ⟨k, rfl, rfl, hk, hik0, HK⟩ := hrel
    have hend : (k < s.size ∧ spaB s[k]! = spaB s[k]!) ∨ True := .inr trivial
    clear hend
    by_cases hgo : ∃ h : k < s.size, spaB s[k] = false
    · obtain ⟨hlt, hp⟩ := hgo
      have HC := fun w => HSp s[k] w
      have hRk := Lib.hid ((seek_yes (fun c => !spaB c) s k hlt (by rw [hp]; rfl)).symm.trans HK.out)
      rw [show spaceI ((s[k].toNat : Nat) : Int) = false from hp] at HC
      clear hp
      go_wp2_with (fail)
      refine (HC _).out.mono ?_
      rintro e wz ⟨rfl, rfl⟩
      go_wp2
      go_roundw
      case rel => exact ⟨k + 1, by go_num, trivial, by omega, by omega, hRk⟩
      case measure => simp [intOf]; omega
    · have hkk : k = k0 := by
        by_cases hlt : k < s.size
        · have hp : spaB s[k] = true := by
            cases h : spaB s[k]
            · exact (hgo ⟨hlt, h⟩).elim
            · rfl
          exact (seek_no (fun c => !spaB c) s k hlt (by rw [hp]; rfl)).symm.trans HK.out
        · exact (seek_end (fun c => !spaB c) s k (by omega)).symm.trans HK.out
      subst hkk
      have hstop : k = s.size ∨ ∃ h : k < s.size, spaB s[k] = true := by
        by_cases hlt : k < s.size
        · refine .inr ⟨hlt, ?_⟩
          cases h : spaB s[k]
          · exact (hgo ⟨hlt, h⟩).elim
          · rfl
        · exact .inl (by omega)
      have HST := Lib.hid hstop
      clear hgo hstop
      rcases HST.out with hke | ⟨hlt, hp⟩
      · have hlt : ¬ k < s.size := by omega
        have HKE := Lib.hid hke
        clear hke
        go_wp2_with (fail)
        refine (HL _).out.mono ?_
        rintro e wl ⟨rfl, bl⟩
        have RG := Lib.hid (RG.out.below bl)
        have RH := Lib.hid (RH.out.below bl)
        have B := Lib.hid (B.out.trans (Below.mono bl B.out.size))
        go_wp2_with (fail)
        refine (HCl _).out.mono ?_
        rintro e wc ⟨rfl, bc⟩
        have RG := Lib.hid (RG.out.below bc)
        have RH := Lib.hid (RH.out.below bc)
        have B := Lib.hid (B.out.trans (Below.mono bc B.out.size))
        clear bl bc
        obtain ⟨x0, x1, x2, x3, x4, x5, x6⟩ := docAt_cells RH.out
        go_wp2_with (first
          | (refine wpList_store_doc1 33 rfl 9 _ _ rfl (w.heap.size + 1) 0 _ doc0 ⟨NM, [], [], false, false, false, false⟩ rfl rfl RH.out (by decide) sizeStr rfl rfl rfl ?_; intro wx rx gx; have RG := Lib.hid (RG.out.kept gx (by omega)); have RH := Lib.hid rx; have B := Lib.hid (B.out.grown gx B.out.size (fun j hj => by cases hj; omega)); obtain ⟨y0, y1, y2, y3, y4, y5, y6⟩ := docAt_cells rx; clear rx gx)
          | (refine wpList_store_doc1 33 rfl 4 _ _ rfl (w.heap.size + 1) 3 _ ⟨NM, [], [], false, false, false, false⟩ ⟨NM, [], [], true, false, false, false⟩ rfl rfl RH.out (by decide) sizeBool rfl rfl rfl ?_; intro wx rx gx; have RG := Lib.hid (RG.out.kept gx (by omega)); have RH := Lib.hid rx; have B := Lib.hid (B.out.grown gx B.out.size (fun j hj => by cases hj; omega)); obtain ⟨y0, y1, y2, y3, y4, y5, y6⟩ := docAt_cells rx; clear rx gx))
        refine (HP1 _).out.mono ?_
        rintro e wp ⟨rfl, rfl⟩
        by_cases h1 : i1 = s.size
        · have HV := Lib.hid (HVN.out.trans (st2_end s _ ended _ (HI1.out.trans h1)))
          have b1 : ((i1 : Int) == (s.size : Int)) = true := by rw [h1]; exact beq_self_eq_true _
          have H1 := Lib.hid h1
          clear h1
          obtain ⟨x0, x1, x2, x3, x4, x5, x6⟩ := docAt_cells RH.out
          go_wp2_with (first
            | (refine wpList_store_doc1 33 rfl 4 _ _ rfl (w.heap.size + 1) 6 _ ⟨NM, [], [], true, false, false, false⟩ ⟨NM, [], [], true, false, false, !ended⟩ rfl rfl RH.out (by decide) sizeBool rfl rfl rfl ?_; intro wx rx gx; have RG := Lib.hid (RG.out.kept gx (by omega)); have RH := Lib.hid rx; have B := Lib.hid (B.out.grown gx B.out.size (fun j hj => by cases hj; omega)); obtain ⟨y0, y1, y2, y3, y4, y5, y6⟩ := docAt_cells rx; clear rx gx)
            | (refine wpList_load_doc 33 rfl _ rfl (w.heap.size + 1) ⟨NM, [], [], true, false, false, !ended⟩ _ rfl RH.out Try.underlying33 rfl sizeDoc11 ?_)
            | (refine wpList_store_doc 33 rfl _ _ rfl w.heap.size ⟨NM, [], [], true, false, false, !ended⟩ doc0 rfl rfl RG.out sizeDoc11 ?_; intro wy ry gy))
          refine bodyPost_ret (results_cell_row rfl _ _ w.heap.size 33 (docCells ⟨NM, [], [], true, false, false, !ended⟩) (0, 0) _ rfl ry Try.underlying33 rfl sizeDoc11) rfl ?_
          exact ⟨by rw [HV.out]; rfl, B.out.grown gy B.out.size (fun j hj => by cases hj; exact Nat.le_refl _)⟩
        exact (h1 (by have := HKE.out; omega)).elim
      · have HC := fun w => HSp s[k] w
        rw [show spaceI ((s[k].toNat : Nat) : Int) = true from hp] at HC
        clear hp
        go_wp2_with (fail)
        refine (HC _).out.mono ?_
        rintro e wz ⟨rfl, rfl⟩
        go_wp2_with (fail)
        refine (HL _).out.mono ?_
        rintro e wl ⟨rfl, bl⟩
        have RG := Lib.hid (RG.out.below bl)
        have RH := Lib.hid (RH.out.below bl)
        have B := Lib.hid (B.out.trans (Below.mono bl B.out.size))
        go_wp2_with (fail)
        refine (HCl _).out.mono ?_
        rintro e wc ⟨rfl, bc⟩
        have RG := Lib.hid (RG.out.below bc)
        have RH := Lib.hid (RH.out.below bc)
        have B := Lib.hid (B.out.trans (Below.mono bc B.out.size))
        clear bl bc
        obtain ⟨x0, x1, x2, x3, x4, x5, x6⟩ := docAt_cells RH.out
        go_wp2_with (first
          | (refine wpList_store_doc1 33 rfl 9 _ _ rfl (w.heap.size + 1) 0 _ doc0 ⟨NM, [], [], false, false, false, false⟩ rfl rfl RH.out (by decide) sizeStr rfl rfl rfl ?_; intro wx rx gx; have RG := Lib.hid (RG.out.kept gx (by omega)); have RH := Lib.hid rx; have B := Lib.hid (B.out.grown gx B.out.size (fun j hj => by cases hj; omega)); obtain ⟨y0, y1, y2, y3, y4, y5, y6⟩ := docAt_cells rx; clear rx gx)
          | (refine wpList_store_doc1 33 rfl 4 _ _ rfl (w.heap.size + 1) 3 _ ⟨NM, [], [], false, false, false, false⟩ ⟨NM, [], [], true, false, false, false⟩ rfl rfl RH.out (by decide) sizeBool rfl rfl rfl ?_; intro wx rx gx; have RG := Lib.hid (RG.out.kept gx (by omega)); have RH := Lib.hid rx; have B := Lib.hid (B.out.grown gx B.out.size (fun j hj => by cases hj; omega)); obtain ⟨y0, y1, y2, y3, y4, y5, y6⟩ := docAt_cells rx; clear rx gx))
        refine (HP1 _).out.mono ?_
        rintro e wp ⟨rfl, rfl⟩
        by_cases h1 : i1 = s.size
        · have HV := Lib.hid (HVN.out.trans (st2_end s _ ended _ (HI1.out.trans h1)))
          have b1 : ((i1 : Int) == (s.size : Int)) = true := by rw [h1]; exact beq_self_eq_true _
          have H1 := Lib.hid h1
          clear h1
          obtain ⟨x0, x1, x2, x3, x4, x5, x6⟩ := docAt_cells RH.out
          go_wp2_with (first
            | (refine wpList_store_doc1 33 rfl 4 _ _ rfl (w.heap.size + 1) 6 _ ⟨NM, [], [], true, false, false, false⟩ ⟨NM, [], [], true, false, false, !ended⟩ rfl rfl RH.out (by decide) sizeBool rfl rfl rfl ?_; intro wx rx gx; have RG := Lib.hid (RG.out.kept gx (by omega)); have RH := Lib.hid rx; have B := Lib.hid (B.out.grown gx B.out.size (fun j hj => by cases hj; omega)); obtain ⟨y0, y1, y2, y3, y4, y5, y6⟩ := docAt_cells rx; clear rx gx)
            | (refine wpList_load_doc 33 rfl _ rfl (w.heap.size + 1) ⟨NM, [], [], true, false, false, !ended⟩ _ rfl RH.out Try.underlying33 rfl sizeDoc11 ?_)
            | (refine wpList_store_doc 33 rfl _ _ rfl w.heap.size ⟨NM, [], [], true, false, false, !ended⟩ doc0 rfl rfl RG.out sizeDoc11 ?_; intro wy ry gy))
          refine bodyPost_ret (results_cell_row rfl _ _ w.heap.size 33 (docCells ⟨NM, [], [], true, false, false, !ended⟩) (0, 0) _ rfl ry Try.underlying33 rfl sizeDoc11) rfl ?_
          exact ⟨by rw [HV.out]; rfl, B.out.grown gy B.out.size (fun j hj => by cases hj; exact Nat.le_refl _)⟩
        have hlt1 : i1 < s.size := by omega
        have b1 : ((i1 : Int) == (s.size : Int)) = false := by rw [beq_eq_false_iff_ne]; omega
        have hv1 := HVN.out.trans (st2_word s _ ended _ i1 HI1.out hlt1)
        have HB1 := fun w => Lib.hid (refBegins s ((i1 : Nat) : Int) ⟨#[112, 117, 98, 108, 105, 99]⟩ w (by omega) (by decide) (by omega) (by omega))
        have HB2 := fun w => Lib.hid (refBegins s ((i1 : Nat) : Int) ⟨#[115, 121, 115, 116, 101, 109]⟩ w (by omega) (by decide) (by omega) (by omega))
        have w1 : begS s ((i1 : Nat) : Int) ⟨#[112, 117, 98, 108, 105, 99]⟩ = pubL.isPrefixOf (lowL (s.data.toList.drop i1)) := by
          unfold begS
          rw [decide_eq_true (show 0 ≤ ((i1 : Nat) : Int) ∧ ((i1 : Nat) : Int) ≤ (s.size : Int) by omega), Bool.true_and, show ((i1 : Nat) : Int).toNat = i1 by omega]; rfl
        have w2 : begS s ((i1 : Nat) : Int) ⟨#[115, 121, 115, 116, 101, 109]⟩ = sysL.isPrefixOf (lowL (s.data.toList.drop i1)) := by
          unfold begS
          rw [decide_eq_true (show 0 ≤ ((i1 : Nat) : Int) ∧ ((i1 : Nat) : Int) ≤ (s.size : Int) by omega), Bool.true_and, show ((i1 : Nat) : Int).toNat = i1 by omega]; rfl
        rw [w1] at HB1
        rw [w2] at HB2
        have h6 : pubL.isPrefixOf (lowL (s.data.toList.drop i1)) = true ∨ sysL.isPrefixOf (lowL (s.data.toList.drop i1)) = true → i1 + 6 ≤ s.size := fun h => by
          have h9 : 6 ≤ (lowL (s.data.toList.drop i1)).length := by
            rcases h with h | h
            · exact (List.isPrefixOf_iff_prefix.1 h).length_le
            · exact (List.isPrefixOf_iff_prefix.1 h).length_le
          rw [lowL_len, List.length_drop, ← Lib.size_eq] at h9; omega
        obtain ⟨PU, hPU⟩ : ∃ b, pubL.isPrefixOf (lowL (s.data.toList.drop i1)) = b := ⟨_, rfl⟩
        obtain ⟨SS, hSS⟩ : ∃ b, sysL.isPrefixOf (lowL (s.data.toList.drop i1)) = b := ⟨_, rfl⟩
        rw [hPU] at HB1 hv1 h6
        rw [hSS] at HB2 hv1 h6
        have HV1 := Lib.hid hv1
        have H6 := Lib.hid h6
        clear hv1 w1 w2 hPU hSS h6 h1
        go_wp2_with (fail)
        refine (HB1 _).out.mono ?_
        rintro e wb1 ⟨rfl, bb1⟩
        have RG := Lib.hid (RG.out.below bb1)
        have RH := Lib.hid (RH.out.below bb1)
        have B := Lib.hid (B.out.trans (Below.mono bb1 B.out.size))
        go_wp2_with (fail)
        refine (HB2 _).out.mono ?_
        rintro e wb2 ⟨rfl, bb2⟩
        have RG := Lib.hid (RG.out.below bb2)
        have RH := Lib.hid (RH.out.below bb2)
        have B := Lib.hid (B.out.trans (Below.mono bb2 B.out.size))
        clear bb1 bb2
        cases PU
        · cases SS
          · have HV := Lib.hid HV1.out
            obtain ⟨x0, x1, x2, x3, x4, x5, x6⟩ := docAt_cells RH.out
            go_wp2_with (first
              | (refine wpList_store_doc1 33 rfl 4 _ _ rfl (w.heap.size + 1) 6 _ ⟨NM, [], [], true, false, false, false⟩ ⟨NM, [], [], true, false, false, true⟩ rfl rfl RH.out (by decide) sizeBool rfl rfl rfl ?_; intro wx rx gx; have RG := Lib.hid (RG.out.kept gx (by omega)); have RH := Lib.hid rx; have B := Lib.hid (B.out.grown gx B.out.size (fun j hj => by cases hj; omega)); obtain ⟨y0, y1, y2, y3, y4, y5, y6⟩ := docAt_cells rx; clear rx gx)
              | (refine wpList_load_doc 33 rfl _ rfl (w.heap.size + 1) ⟨NM, [], [], true, false, false, true⟩ _ rfl RH.out Try.underlying33 rfl sizeDoc11 ?_)
              | (refine wpList_store_doc 33 rfl _ _ rfl w.heap.size ⟨NM, [], [], true, false, false, true⟩ doc0 rfl rfl RG.out sizeDoc11 ?_; intro wy ry gy))
            refine bodyPost_ret (results_cell_row rfl _ _ w.heap.size 33 (docCells ⟨NM, [], [], true, false, false, true⟩) (0, 0) _ rfl ry Try.underlying33 rfl sizeDoc11) rfl ?_
            exact ⟨by rw [HV.out]; rfl, B.out.grown gy B.out.size (fun j hj => by cases hj; exact Nat.le_refl _)⟩
          · skip
            have hle6 := H6.out (.inr rfl)
            have HP2 := fun w => Lib.hid (ref11Pass_any s ((i1 : Int) + 6) (i1 + 6) w hs (by omega) hle6)
            have hb4 := seek_le spaB s (i1 + 6) hle6
            obtain ⟨i2, hi2⟩ : ∃ i, seekP spaB s.data.toList (i1 + 6) = i := ⟨_, rfl⟩
            rw [hi2] at HP2 hb4
            have HI2 := Lib.hid hi2
            have HQ2 := fun w => Lib.hid (ref11Quote_any s ((i2 : Nat) : Int) i2 w hs rfl hb4.2)
            have hno := no_quote s (i1 + 6) i2 hi2
            have hyes := is_quote s i2
            obtain ⟨q2, hq2⟩ : ∃ b, (s.data.toList.drop i2).head?.any quoB = b := ⟨_, rfl⟩
            rw [hq2] at HQ2 hno hyes
            have HNO := Lib.hid hno
            have HYES := Lib.hid hyes
            have hi1m : i1 ≤ 1048576 := by omega
            clear hno hyes hq2 hi2
            go_wp2_with (fail)
            refine (HP2 _).out.mono ?_
            rintro e wp2 ⟨rfl, rfl⟩
            go_wp2_with (fail)
            refine (HQ2 _).out.mono ?_
            rintro e wq2 ⟨rfl, rfl⟩
            cases q2
            · have HV := Lib.hid (HV1.out.trans (HNO.out rfl ⟨NM, [], [], true, false, false, false⟩ ended).2)
              obtain ⟨x0, x1, x2, x3, x4, x5, x6⟩ := docAt_cells RH.out
              go_wp2_with (first
                | (refine wpList_store_doc1 33 rfl 4 _ _ rfl (w.heap.size + 1) 6 _ ⟨NM, [], [], true, false, false, false⟩ ⟨NM, [], [], true, false, false, true⟩ rfl rfl RH.out (by decide) sizeBool rfl rfl rfl ?_; intro wx rx gx; have RG := Lib.hid (RG.out.kept gx (by omega)); have RH := Lib.hid rx; have B := Lib.hid (B.out.grown gx B.out.size (fun j hj => by cases hj; omega)); obtain ⟨y0, y1, y2, y3, y4, y5, y6⟩ := docAt_cells rx; clear rx gx)
                | (refine wpList_load_doc 33 rfl _ rfl (w.heap.size + 1) ⟨NM, [], [], true, false, false, true⟩ _ rfl RH.out Try.underlying33 rfl sizeDoc11 ?_)
                | (refine wpList_store_doc 33 rfl _ _ rfl w.heap.size ⟨NM, [], [], true, false, false, true⟩ doc0 rfl rfl RG.out sizeDoc11 ?_; intro wy ry gy))
              refine bodyPost_ret (results_cell_row rfl _ _ w.heap.size 33 (docCells ⟨NM, [], [], true, false, false, true⟩) (0, 0) _ rfl ry Try.underlying33 rfl sizeDoc11) rfl ?_
              exact ⟨by rw [HV.out]; rfl, B.out.grown gy B.out.size (fun j hj => by cases hj; exact Nat.le_refl _)⟩
            obtain ⟨hlti2, hqi2⟩ := HYES.out rfl
            have HV0 := Lib.hid (HV1.out.trans (st4_quote s (i1 + 6) i2 HI2.out hlti2 hqi2 ⟨NM, [], [], true, false, false, false⟩ ended))
            clear hqi2
            obtain ⟨k2, hk2⟩ : ∃ k, seekP (· != s[i2]) s.data.toList (i2 + 1) = k := ⟨_, rfl⟩
            have HU2 := fun w => Lib.hid (ref11Until_any s ((i2 : Nat) : Int) i2 w hs rfl hlti2)
            rw [hk2] at HU2
            have hb2 := seek_le (· != s[i2]) s (i2 + 1) hlti2
            rw [hk2] at hb2
            obtain ⟨p1, p2⟩ := st5_at s i2 k2 hlti2 hk2 ⟨NM, [], [], true, false, false, false⟩ ended
            have HC2 := fun w => Lib.hid (refClean_any (s.extract (i2 + 1) k2) w (by rw [ByteArray.size_extract]; omega))
            obtain ⟨SY, hSY⟩ : ∃ X, cleanL (s.extract (i2 + 1) k2).data.toList = X := ⟨_, rfl⟩
            rw [hSY] at HC2 p1 p2
            have P1 := Lib.hid p1
            have P2 := Lib.hid p2
            have g1 : (i2 : Int) + 1 ≤ (k2 : Int) := by omega
            have g2 : (k2 : Int) ≤ (s.size : Int) := by omega
            have g3 : k2 ≤ 1048576 := by omega
            have g4 : i2 ≤ 1048576 := by omega
            clear hk2 hSY p1 p2 hb2
            go_wp2_with (fail)
            refine (HU2 _).out.mono ?_
            rintro e wu ⟨rfl, nu, rfl⟩
            have RG := Lib.hid (RG.out.below (dr_below _ _ nu))
            have RH := Lib.hid (RH.out.below (dr_below _ _ nu))
            have B := Lib.hid (B.out.trans (Below.mono (dr_below _ _ nu) B.out.size))
            go_wp2_with (fail)
            refine (HC2 _).out.mono ?_
            rintro e wc ⟨rfl, bc⟩
            have RG := Lib.hid (RG.out.below bc)
            have RH := Lib.hid (RH.out.below bc)
            have B := Lib.hid (B.out.trans (Below.mono bc B.out.size))
            clear bc
            by_cases hke : k2 = s.size
            · have HV := Lib.hid (HV0.out.trans (P1.out hke))
              have bk : ((k2 : Int) == (s.size : Int)) = true := by rw [hke]; exact beq_self_eq_true _
              have HKE := Lib.hid hke
              clear hke
              obtain ⟨x0, x1, x2, x3, x4, x5, x6⟩ := docAt_cells RH.out
              go_wp2_with (first
                | (refine wpList_store_doc1 33 rfl 9 _ _ rfl (w.heap.size + 1) 2 _ ⟨NM, [], [], true, false, false, false⟩ ⟨NM, [], SY, true, false, false, false⟩ rfl rfl RH.out (by decide) sizeStr rfl rfl rfl ?_; intro wx rx gx; have RG := Lib.hid (RG.out.kept gx (by omega)); have RH := Lib.hid rx; have B := Lib.hid (B.out.grown gx B.out.size (fun j hj => by cases hj; omega)); obtain ⟨y0, y1, y2, y3, y4, y5, y6⟩ := docAt_cells rx; clear rx gx)
                | (refine wpList_store_doc1 33 rfl 4 _ _ rfl (w.heap.size + 1) 5 _ ⟨NM, [], SY, true, false, false, false⟩ ⟨NM, [], SY, true, false, true, false⟩ rfl rfl RH.out (by decide) sizeBool rfl rfl rfl ?_; intro wx rx gx; have RG := Lib.hid (RG.out.kept gx (by omega)); have RH := Lib.hid rx; have B := Lib.hid (B.out.grown gx B.out.size (fun j hj => by cases hj; omega)); obtain ⟨y0, y1, y2, y3, y4, y5, y6⟩ := docAt_cells rx; clear rx gx)
                | (refine wpList_store_doc1 33 rfl 4 _ _ rfl (w.heap.size + 1) 6 _ ⟨NM, [], SY, true, false, true, false⟩ ⟨NM, [], SY, true, false, true, true⟩ rfl rfl RH.out (by decide) sizeBool rfl rfl rfl ?_; intro wx rx gx; have RG := Lib.hid (RG.out.kept gx (by omega)); have RH := Lib.hid rx; have B := Lib.hid (B.out.grown gx B.out.size (fun j hj => by cases hj; omega)); obtain ⟨y0, y1, y2, y3, y4, y5, y6⟩ := docAt_cells rx; clear rx gx)
                | (refine wpList_load_doc 33 rfl _ rfl (w.heap.size + 1) ⟨NM, [], SY, true, false, true, true⟩ _ rfl RH.out Try.underlying33 rfl sizeDoc11 ?_)
                | (refine wpList_store_doc 33 rfl _ _ rfl w.heap.size ⟨NM, [], SY, true, false, true, true⟩ doc0 rfl rfl RG.out sizeDoc11 ?_; intro wy ry gy))
              refine bodyPost_ret (results_cell_row rfl _ _ w.heap.size 33 (docCells ⟨NM, [], SY, true, false, true, true⟩) (0, 0) _ rfl ry Try.underlying33 rfl sizeDoc11) rfl ?_
              exact ⟨by rw [HV.out]; rfl, B.out.grown gy B.out.size (fun j hj => by cases hj; exact Nat.le_refl _)⟩
            have hkl : k2 < s.size := by omega
            have bk : ((k2 : Int) == (s.size : Int)) = false := by rw [beq_eq_false_iff_ne]; omega
            have HP3 := fun w => Lib.hid (ref11Pass_any s ((k2 : Int) + 1) (k2 + 1) w hs (by omega) hkl)
            have hv3 := P2.out hkl
            have hb3 := seek_le spaB s (k2 + 1) hkl
            obtain ⟨m3, hm3⟩ : ∃ m, seekP spaB s.data.toList (k2 + 1) = m := ⟨_, rfl⟩
            rw [hm3] at HP3 hv3 hb3
            have HV3 := Lib.hid hv3
            clear hv3 hm3 hke
            obtain ⟨x0, x1, x2, x3, x4, x5, x6⟩ := docAt_cells RH.out
            go_wp2_with (first
              | (refine wpList_store_doc1 33 rfl 9 _ _ rfl (w.heap.size + 1) 2 _ ⟨NM, [], [], true, false, false, false⟩ ⟨NM, [], SY, true, false, false, false⟩ rfl rfl RH.out (by decide) sizeStr rfl rfl rfl ?_; intro wx rx gx; have RG := Lib.hid (RG.out.kept gx (by omega)); have RH := Lib.hid rx; have B := Lib.hid (B.out.grown gx B.out.size (fun j hj => by cases hj; omega)); obtain ⟨y0, y1, y2, y3, y4, y5, y6⟩ := docAt_cells rx; clear rx gx)
              | (refine wpList_store_doc1 33 rfl 4 _ _ rfl (w.heap.size + 1) 5 _ ⟨NM, [], SY, true, false, false, false⟩ ⟨NM, [], SY, true, false, true, false⟩ rfl rfl RH.out (by decide) sizeBool rfl rfl rfl ?_; intro wx rx gx; have RG := Lib.hid (RG.out.kept gx (by omega)); have RH := Lib.hid rx; have B := Lib.hid (B.out.grown gx B.out.size (fun j hj => by cases hj; omega)); obtain ⟨y0, y1, y2, y3, y4, y5, y6⟩ := docAt_cells rx; clear rx gx))
            refine (HP3 _).out.mono ?_
            rintro e wp ⟨rfl, rfl⟩
            by_cases hme : m3 = s.size
            · have HV := Lib.hid (HV0.out.trans (HV3.out.trans (show _ = ⟨NM, [], SY, true, false, true, !ended⟩ by rw [decide_eq_true hme]; rfl)))
              have bm : ((m3 : Int) == (s.size : Int)) = true := by rw [hme]; exact beq_self_eq_true _
              have HME := Lib.hid hme
              clear hme
              obtain ⟨x0, x1, x2, x3, x4, x5, x6⟩ := docAt_cells RH.out
              go_wp2_with (first
                | (refine wpList_store_doc1 33 rfl 4 _ _ rfl (w.heap.size + 1) 6 _ ⟨NM, [], SY, true, false, true, false⟩ ⟨NM, [], SY, true, false, true, !ended⟩ rfl rfl RH.out (by decide) sizeBool rfl rfl rfl ?_; intro wx rx gx; have RG := Lib.hid (RG.out.kept gx (by omega)); have RH := Lib.hid rx; have B := Lib.hid (B.out.grown gx B.out.size (fun j hj => by cases hj; omega)); obtain ⟨y0, y1, y2, y3, y4, y5, y6⟩ := docAt_cells rx; clear rx gx)
                | (refine wpList_load_doc 33 rfl _ rfl (w.heap.size + 1) ⟨NM, [], SY, true, false, true, !ended⟩ _ rfl RH.out Try.underlying33 rfl sizeDoc11 ?_)
                | (refine wpList_store_doc 33 rfl _ _ rfl w.heap.size ⟨NM, [], SY, true, false, true, !ended⟩ doc0 rfl rfl RG.out sizeDoc11 ?_; intro wy ry gy))
              refine bodyPost_ret (results_cell_row rfl _ _ w.heap.size 33 (docCells ⟨NM, [], SY, true, false, true, !ended⟩) (0, 0) _ rfl ry Try.underlying33 rfl sizeDoc11) rfl ?_
              exact ⟨by rw [HV.out]; rfl, B.out.grown gy B.out.size (fun j hj => by cases hj; exact Nat.le_refl _)⟩
            have HV := Lib.hid (HV0.out.trans (HV3.out.trans (show _ = ⟨NM, [], SY, true, false, true, false⟩ by rw [decide_eq_false hme]; rfl)))
            have bm : ((m3 : Int) == (s.size : Int)) = false := by rw [beq_eq_false_iff_ne]; omega
            clear hme
            go_wp2_with (first
              | (refine wpList_load_doc 33 rfl _ rfl (w.heap.size + 1) ⟨NM, [], SY, true, false, true, false⟩ _ rfl RH.out Try.underlying33 rfl sizeDoc11 ?_)
              | (refine wpList_store_doc 33 rfl _ _ rfl w.heap.size ⟨NM, [], SY, true, false, true, false⟩ doc0 rfl rfl RG.out sizeDoc11 ?_; intro wy ry gy))
            refine bodyPost_ret (results_cell_row rfl _ _ w.heap.size 33 (docCells ⟨NM, [], SY, true, false, true, false⟩) (0, 0) _ rfl ry Try.underlying33 rfl sizeDoc11) rfl ?_
            exact ⟨by rw [HV.out]; rfl, B.out.grown gy B.out.size (fun j hj => by cases hj; exact Nat.le_refl _)⟩
        · skip
          have hle6 := H6.out (.inl rfl)
          have HP2 := fun w => Lib.hid (ref11Pass_any s ((i1 : Int) + 6) (i1 + 6) w hs (by omega) hle6)
          have hb4 := seek_le spaB s (i1 + 6) hle6
          obtain ⟨i2, hi2⟩ : ∃ i, seekP spaB s.data.toList (i1 + 6) = i := ⟨_, rfl⟩
          rw [hi2] at HP2 hb4
          have HI2 := Lib.hid hi2
          have HQ2 := fun w => Lib.hid (ref11Quote_any s ((i2 : Nat) : Int) i2 w hs rfl hb4.2)
          have hno := no_quote s (i1 + 6) i2 hi2
          have hyes := is_quote s i2
          obtain ⟨q2, hq2⟩ : ∃ b, (s.data.toList.drop i2).head?.any quoB = b := ⟨_, rfl⟩
          rw [hq2] at HQ2 hno hyes
          have HNO := Lib.hid hno
          have HYES := Lib.hid hyes
          have hi1m : i1 ≤ 1048576 := by omega
          clear hno hyes hq2 hi2
          go_wp2_with (fail)
          refine (HP2 _).out.mono ?_
          rintro e wp2 ⟨rfl, rfl⟩
          go_wp2_with (fail)
          refine (HQ2 _).out.mono ?_
          rintro e wq2 ⟨rfl, rfl⟩
          cases q2
          · have HV := Lib.hid (HV1.out.trans (HNO.out rfl ⟨NM, [], [], true, false, false, false⟩ ended).1)
            obtain ⟨x0, x1, x2, x3, x4, x5, x6⟩ := docAt_cells RH.out
            go_wp2_with (first
              | (refine wpList_store_doc1 33 rfl 4 _ _ rfl (w.heap.size + 1) 6 _ ⟨NM, [], [], true, false, false, false⟩ ⟨NM, [], [], true, false, false, true⟩ rfl rfl RH.out (by decide) sizeBool rfl rfl rfl ?_; intro wx rx gx; have RG := Lib.hid (RG.out.kept gx (by omega)); have RH := Lib.hid rx; have B := Lib.hid (B.out.grown gx B.out.size (fun j hj => by cases hj; omega)); obtain ⟨y0, y1, y2, y3, y4, y5, y6⟩ := docAt_cells rx; clear rx gx)
              | (refine wpList_load_doc 33 rfl _ rfl (w.heap.size + 1) ⟨NM, [], [], true, false, false, true⟩ _ rfl RH.out Try.underlying33 rfl sizeDoc11 ?_)
              | (refine wpList_store_doc 33 rfl _ _ rfl w.heap.size ⟨NM, [], [], true, false, false, true⟩ doc0 rfl rfl RG.out sizeDoc11 ?_; intro wy ry gy))
            refine bodyPost_ret (results_cell_row rfl _ _ w.heap.size 33 (docCells ⟨NM, [], [], true, false, false, true⟩) (0, 0) _ rfl ry Try.underlying33 rfl sizeDoc11) rfl ?_
            exact ⟨by rw [HV.out]; rfl, B.out.grown gy B.out.size (fun j hj => by cases hj; exact Nat.le_refl _)⟩
          obtain ⟨hlti2, hqi2⟩ := HYES.out rfl
          obtain ⟨k1, hk1⟩ : ∃ k, seekP (· != s[i2]) s.data.toList (i2 + 1) = k := ⟨_, rfl⟩
          have HU1 := fun w => Lib.hid (ref11Until_any s ((i2 : Nat) : Int) i2 w hs rfl hlti2)
          rw [hk1] at HU1
          have hb5 := seek_le (· != s[i2]) s (i2 + 1) hlti2
          rw [hk1] at hb5
          obtain ⟨p1, p2⟩ := st3_at s (i1 + 6) i2 k1 HI2.out hlti2 hqi2 hk1 ⟨NM, [], [], true, false, false, false⟩ ended
          have HC1 := fun w => Lib.hid (refClean_any (s.extract (i2 + 1) k1) w (by rw [ByteArray.size_extract]; omega))
          obtain ⟨PB, hPB⟩ : ∃ X, cleanL (s.extract (i2 + 1) k1).data.toList = X := ⟨_, rfl⟩
          rw [hPB] at HC1 p1 p2
          have P1 := Lib.hid p1
          have P2 := Lib.hid p2
          have g1 : (i2 : Int) + 1 ≤ (k1 : Int) := by omega
          have g2 : (k1 : Int) ≤ (s.size : Int) := by omega
          have g3 : k1 ≤ 1048576 := by omega
          have g4 : i2 ≤ 1048576 := by omega
          clear hk1 hPB p1 p2 hb5 hqi2
          go_wp2_with (fail)
          refine (HU1 _).out.mono ?_
          rintro e wu ⟨rfl, nu, rfl⟩
          have RG := Lib.hid (RG.out.below (dr_below _ _ nu))
          have RH := Lib.hid (RH.out.below (dr_below _ _ nu))
          have B := Lib.hid (B.out.trans (Below.mono (dr_below _ _ nu) B.out.size))
          go_wp2_with (fail)
          refine (HC1 _).out.mono ?_
          rintro e wc1 ⟨rfl, bc⟩
          have RG := Lib.hid (RG.out.below bc)
          have RH := Lib.hid (RH.out.below bc)
          have B := Lib.hid (B.out.trans (Below.mono bc B.out.size))
          clear bc
          by_cases hke : k1 = s.size
          · have HV := Lib.hid (HV1.out.trans (P1.out hke))
            have bk : ((k1 : Int) == (s.size : Int)) = true := by rw [hke]; exact beq_self_eq_true _
            have HKE := Lib.hid hke
            clear hke
            obtain ⟨x0, x1, x2, x3, x4, x5, x6⟩ := docAt_cells RH.out
            go_wp2_with (first
              | (refine wpList_store_doc1 33 rfl 9 _ _ rfl (w.heap.size + 1) 1 _ ⟨NM, [], [], true, false, false, false⟩ ⟨NM, PB, [], true, false, false, false⟩ rfl rfl RH.out (by decide) sizeStr rfl rfl rfl ?_; intro wx rx gx; have RG := Lib.hid (RG.out.kept gx (by omega)); have RH := Lib.hid rx; have B := Lib.hid (B.out.grown gx B.out.size (fun j hj => by cases hj; omega)); obtain ⟨y0, y1, y2, y3, y4, y5, y6⟩ := docAt_cells rx; clear rx gx)
              | (refine wpList_store_doc1 33 rfl 4 _ _ rfl (w.heap.size + 1) 4 _ ⟨NM, PB, [], true, false, false, false⟩ ⟨NM, PB, [], true, true, false, false⟩ rfl rfl RH.out (by decide) sizeBool rfl rfl rfl ?_; intro wx rx gx; have RG := Lib.hid (RG.out.kept gx (by omega)); have RH := Lib.hid rx; have B := Lib.hid (B.out.grown gx B.out.size (fun j hj => by cases hj; omega)); obtain ⟨y0, y1, y2, y3, y4, y5, y6⟩ := docAt_cells rx; clear rx gx)
              | (refine wpList_store_doc1 33 rfl 4 _ _ rfl (w.heap.size + 1) 6 _ ⟨NM, PB, [], true, true, false, false⟩ ⟨NM, PB, [], true, true, false, true⟩ rfl rfl RH.out (by decide) sizeBool rfl rfl rfl ?_; intro wx rx gx; have RG := Lib.hid (RG.out.kept gx (by omega)); have RH := Lib.hid rx; have B := Lib.hid (B.out.grown gx B.out.size (fun j hj => by cases hj; omega)); obtain ⟨y0, y1, y2, y3, y4, y5, y6⟩ := docAt_cells rx; clear rx gx)
              | (refine wpList_load_doc 33 rfl _ rfl (w.heap.size + 1) ⟨NM, PB, [], true, true, false, true⟩ _ rfl RH.out Try.underlying33 rfl sizeDoc11 ?_)
              | (refine wpList_store_doc 33 rfl _ _ rfl w.heap.size ⟨NM, PB, [], true, true, false, true⟩ doc0 rfl rfl RG.out sizeDoc11 ?_; intro wy ry gy))
            refine bodyPost_ret (results_cell_row rfl _ _ w.heap.size 33 (docCells ⟨NM, PB, [], true, true, false, true⟩) (0, 0) _ rfl ry Try.underlying33 rfl sizeDoc11) rfl ?_
            exact ⟨by rw [HV.out]; rfl, B.out.grown gy B.out.size (fun j hj => by cases hj; exact Nat.le_refl _)⟩
          have hkl : k1 < s.size := by omega
          have bk : ((k1 : Int) == (s.size : Int)) = false := by rw [beq_eq_false_iff_ne]; omega
          have HP3 := fun w => Lib.hid (ref11Pass_any s ((k1 : Int) + 1) (k1 + 1) w hs (by omega) hkl)
          have hb3 := seek_le spaB s (k1 + 1) hkl
          obtain ⟨m, hm⟩ : ∃ m, seekP spaB s.data.toList (k1 + 1) = m := ⟨_, rfl⟩
          obtain ⟨r1, r2, r3⟩ := P2.out hkl m hm
          rw [hm] at HP3 hb3
          have R1 := Lib.hid r1
          have R2 := Lib.hid r2
          have R3 := Lib.hid r3
          have HQ3 := fun w => Lib.hid (ref11Quote_any s ((m : Nat) : Int) m w hs rfl hb3.2)
          have hyes3 := is_quote s m
          obtain ⟨q3, hq3⟩ : ∃ b, (s.data.toList.drop m).head?.any quoB = b := ⟨_, rfl⟩
          rw [hq3] at HQ3 hyes3
          have HQ3E := Lib.hid hq3
          have HYES3 := Lib.hid hyes3
          clear hm hke r1 r2 r3 hq3 hyes3
          obtain ⟨x0, x1, x2, x3, x4, x5, x6⟩ := docAt_cells RH.out
          go_wp2_with (first
            | (refine wpList_store_doc1 33 rfl 9 _ _ rfl (w.heap.size + 1) 1 _ ⟨NM, [], [], true, false, false, false⟩ ⟨NM, PB, [], true, false, false, false⟩ rfl rfl RH.out (by decide) sizeStr rfl rfl rfl ?_; intro wx rx gx; have RG := Lib.hid (RG.out.kept gx (by omega)); have RH := Lib.hid rx; have B := Lib.hid (B.out.grown gx B.out.size (fun j hj => by cases hj; omega)); obtain ⟨y0, y1, y2, y3, y4, y5, y6⟩ := docAt_cells rx; clear rx gx)
            | (refine wpList_store_doc1 33 rfl 4 _ _ rfl (w.heap.size + 1) 4 _ ⟨NM, PB, [], true, false, false, false⟩ ⟨NM, PB, [], true, true, false, false⟩ rfl rfl RH.out (by decide) sizeBool rfl rfl rfl ?_; intro wx rx gx; have RG := Lib.hid (RG.out.kept gx (by omega)); have RH := Lib.hid rx; have B := Lib.hid (B.out.grown gx B.out.size (fun j hj => by cases hj; omega)); obtain ⟨y0, y1, y2, y3, y4, y5, y6⟩ := docAt_cells rx; clear rx gx))
          refine (HP3 _).out.mono ?_
          rintro e wp3 ⟨rfl, rfl⟩
          by_cases hme : m = s.size
          · have HV := Lib.hid (HV1.out.trans (R1.out hme))
            have bm : ((m : Int) == (s.size : Int)) = true := by rw [hme]; exact beq_self_eq_true _
            have HME := Lib.hid hme
            clear hme
            obtain ⟨x0, x1, x2, x3, x4, x5, x6⟩ := docAt_cells RH.out
            go_wp2_with (first
              | (refine wpList_store_doc1 33 rfl 4 _ _ rfl (w.heap.size + 1) 6 _ ⟨NM, PB, [], true, true, false, false⟩ ⟨NM, PB, [], true, true, false, !ended⟩ rfl rfl RH.out (by decide) sizeBool rfl rfl rfl ?_; intro wx rx gx; have RG := Lib.hid (RG.out.kept gx (by omega)); have RH := Lib.hid rx; have B := Lib.hid (B.out.grown gx B.out.size (fun j hj => by cases hj; omega)); obtain ⟨y0, y1, y2, y3, y4, y5, y6⟩ := docAt_cells rx; clear rx gx)
              | (refine wpList_load_doc 33 rfl _ rfl (w.heap.size + 1) ⟨NM, PB, [], true, true, false, !ended⟩ _ rfl RH.out Try.underlying33 rfl sizeDoc11 ?_)
              | (refine wpList_store_doc 33 rfl _ _ rfl w.heap.size ⟨NM, PB, [], true, true, false, !ended⟩ doc0 rfl rfl RG.out sizeDoc11 ?_; intro wy ry gy))
            refine bodyPost_ret (results_cell_row rfl _ _ w.heap.size 33 (docCells ⟨NM, PB, [], true, true, false, !ended⟩) (0, 0) _ rfl ry Try.underlying33 rfl sizeDoc11) rfl ?_
            exact ⟨by rw [HV.out]; rfl, B.out.grown gy B.out.size (fun j hj => by cases hj; exact Nat.le_refl _)⟩
          have bm : ((m : Int) == (s.size : Int)) = false := by rw [beq_eq_false_iff_ne]; omega
          have hml : m < s.size := by omega
          clear hme
          go_wp2_with (fail)
          refine (HQ3 _).out.mono ?_
          rintro e wq3 ⟨rfl, rfl⟩
          cases q3
          · have HV := Lib.hid (HV1.out.trans (R2.out hml HQ3E.out))
            obtain ⟨x0, x1, x2, x3, x4, x5, x6⟩ := docAt_cells RH.out
            go_wp2_with (first
              | (refine wpList_store_doc1 33 rfl 4 _ _ rfl (w.heap.size + 1) 6 _ ⟨NM, PB, [], true, true, false, false⟩ ⟨NM, PB, [], true, true, false, true⟩ rfl rfl RH.out (by decide) sizeBool rfl rfl rfl ?_; intro wx rx gx; have RG := Lib.hid (RG.out.kept gx (by omega)); have RH := Lib.hid rx; have B := Lib.hid (B.out.grown gx B.out.size (fun j hj => by cases hj; omega)); obtain ⟨y0, y1, y2, y3, y4, y5, y6⟩ := docAt_cells rx; clear rx gx)
              | (refine wpList_load_doc 33 rfl _ rfl (w.heap.size + 1) ⟨NM, PB, [], true, true, false, true⟩ _ rfl RH.out Try.underlying33 rfl sizeDoc11 ?_)
              | (refine wpList_store_doc 33 rfl _ _ rfl w.heap.size ⟨NM, PB, [], true, true, false, true⟩ doc0 rfl rfl RG.out sizeDoc11 ?_; intro wy ry gy))
            refine bodyPost_ret (results_cell_row rfl _ _ w.heap.size 33 (docCells ⟨NM, PB, [], true, true, false, true⟩) (0, 0) _ rfl ry Try.underlying33 rfl sizeDoc11) rfl ?_
            exact ⟨by rw [HV.out]; rfl, B.out.grown gy B.out.size (fun j hj => by cases hj; exact Nat.le_refl _)⟩
          obtain ⟨hltm, hqm⟩ := HYES3.out rfl
          have HV0 := Lib.hid (HV1.out.trans (R3.out hltm hqm))
          clear hqm bk g1 g2 g3 g4 hkl
          obtain ⟨k2, hk2⟩ : ∃ k, seekP (· != s[m]) s.data.toList (m + 1) = k := ⟨_, rfl⟩
          have HU2 := fun w => Lib.hid (ref11Until_any s ((m : Nat) : Int) m w hs rfl hltm)
          rw [hk2] at HU2
          have hb2 := seek_le (· != s[m]) s (m + 1) hltm
          rw [hk2] at hb2
          obtain ⟨p1, p2⟩ := st5_at s m k2 hltm hk2 ⟨NM, PB, [], true, true, false, false⟩ ended
          have HC2 := fun w => Lib.hid (refClean_any (s.extract (m + 1) k2) w (by rw [ByteArray.size_extract]; omega))
          obtain ⟨SY, hSY⟩ : ∃ X, cleanL (s.extract (m + 1) k2).data.toList = X := ⟨_, rfl⟩
          rw [hSY] at HC2 p1 p2
          have P1 := Lib.hid p1
          have P2 := Lib.hid p2
          have g1 : (m : Int) + 1 ≤ (k2 : Int) := by omega
          have g2 : (k2 : Int) ≤ (s.size : Int) := by omega
          have g3 : k2 ≤ 1048576 := by omega
          have g4 : m ≤ 1048576 := by omega
          clear hk2 hSY p1 p2 hb2
          go_wp2_with (fail)
          refine (HU2 _).out.mono ?_
          rintro e wu ⟨rfl, nu, rfl⟩
          have RG := Lib.hid (RG.out.below (dr_below _ _ nu))
          have RH := Lib.hid (RH.out.below (dr_below _ _ nu))
          have B := Lib.hid (B.out.trans (Below.mono (dr_below _ _ nu) B.out.size))
          go_wp2_with (fail)
          refine (HC2 _).out.mono ?_
          rintro e wc ⟨rfl, bc⟩
          have RG := Lib.hid (RG.out.below bc)
          have RH := Lib.hid (RH.out.below bc)
          have B := Lib.hid (B.out.trans (Below.mono bc B.out.size))
          clear bc
          by_cases hke : k2 = s.size
          · have HV := Lib.hid (HV0.out.trans (P1.out hke))
            have bk : ((k2 : Int) == (s.size : Int)) = true := by rw [hke]; exact beq_self_eq_true _
            have HKE := Lib.hid hke
            clear hke
            obtain ⟨x0, x1, x2, x3, x4, x5, x6⟩ := docAt_cells RH.out
            go_wp2_with (first
              | (refine wpList_store_doc1 33 rfl 9 _ _ rfl (w.heap.size + 1) 2 _ ⟨NM, PB, [], true, true, false, false⟩ ⟨NM, PB, SY, true, true, false, false⟩ rfl rfl RH.out (by decide) sizeStr rfl rfl rfl ?_; intro wx rx gx; have RG := Lib.hid (RG.out.kept gx (by omega)); have RH := Lib.hid rx; have B := Lib.hid (B.out.grown gx B.out.size (fun j hj => by cases hj; omega)); obtain ⟨y0, y1, y2, y3, y4, y5, y6⟩ := docAt_cells rx; clear rx gx)
              | (refine wpList_store_doc1 33 rfl 4 _ _ rfl (w.heap.size + 1) 5 _ ⟨NM, PB, SY, true, true, false, false⟩ ⟨NM, PB, SY, true, true, true, false⟩ rfl rfl RH.out (by decide) sizeBool rfl rfl rfl ?_; intro wx rx gx; have RG := Lib.hid (RG.out.kept gx (by omega)); have RH := Lib.hid rx; have B := Lib.hid (B.out.grown gx B.out.size (fun j hj => by cases hj; omega)); obtain ⟨y0, y1, y2, y3, y4, y5, y6⟩ := docAt_cells rx; clear rx gx)
              | (refine wpList_store_doc1 33 rfl 4 _ _ rfl (w.heap.size + 1) 6 _ ⟨NM, PB, SY, true, true, true, false⟩ ⟨NM, PB, SY, true, true, true, true⟩ rfl rfl RH.out (by decide) sizeBool rfl rfl rfl ?_; intro wx rx gx; have RG := Lib.hid (RG.out.kept gx (by omega)); have RH := Lib.hid rx; have B := Lib.hid (B.out.grown gx B.out.size (fun j hj => by cases hj; omega)); obtain ⟨y0, y1, y2, y3, y4, y5, y6⟩ := docAt_cells rx; clear rx gx)
              | (refine wpList_load_doc 33 rfl _ rfl (w.heap.size + 1) ⟨NM, PB, SY, true, true, true, true⟩ _ rfl RH.out Try.underlying33 rfl sizeDoc11 ?_)
              | (refine wpList_store_doc 33 rfl _ _ rfl w.heap.size ⟨NM, PB, SY, true, true, true, true⟩ doc0 rfl rfl RG.out sizeDoc11 ?_; intro wy ry gy))
            refine bodyPost_ret (results_cell_row rfl _ _ w.heap.size 33 (docCells ⟨NM, PB, SY, true, true, true, true⟩) (0, 0) _ rfl ry Try.underlying33 rfl sizeDoc11) rfl ?_
            exact ⟨by rw [HV.out]; rfl, B.out.grown gy B.out.size (fun j hj => by cases hj; exact Nat.le_refl _)⟩
          have hkl : k2 < s.size := by omega
          have bk : ((k2 : Int) == (s.size : Int)) = false := by rw [beq_eq_false_iff_ne]; omega
          have HP3 := fun w => Lib.hid (ref11Pass_any s ((k2 : Int) + 1) (k2 + 1) w hs (by omega) hkl)
          have hv3 := P2.out hkl
          have hb3 := seek_le spaB s (k2 + 1) hkl
          obtain ⟨m3, hm3⟩ : ∃ m, seekP spaB s.data.toList (k2 + 1) = m := ⟨_, rfl⟩
          rw [hm3] at HP3 hv3 hb3
          have HV3 := Lib.hid hv3
          clear hv3 hm3 hke
          obtain ⟨x0, x1, x2, x3, x4, x5, x6⟩ := docAt_cells RH.out
          go_wp2_with (first
            | (refine wpList_store_doc1 33 rfl 9 _ _ rfl (w.heap.size + 1) 2 _ ⟨NM, PB, [], true, true, false, false⟩ ⟨NM, PB, SY, true, true, false, false⟩ rfl rfl RH.out (by decide) sizeStr rfl rfl rfl ?_; intro wx rx gx; have RG := Lib.hid (RG.out.kept gx (by omega)); have RH := Lib.hid rx; have B := Lib.hid (B.out.grown gx B.out.size (fun j hj => by cases hj; omega)); obtain ⟨y0, y1, y2, y3, y4, y5, y6⟩ := docAt_cells rx; clear rx gx)
            | (refine wpList_store_doc1 33 rfl 4 _ _ rfl (w.heap.size + 1) 5 _ ⟨NM, PB, SY, true, true, false, false⟩ ⟨NM, PB, SY, true, true, true, false⟩ rfl rfl RH.out (by decide) sizeBool rfl rfl rfl ?_; intro wx rx gx; have RG := Lib.hid (RG.out.kept gx (by omega)); have RH := Lib.hid rx; have B := Lib.hid (B.out.grown gx B.out.size (fun j hj => by cases hj; omega)); obtain ⟨y0, y1, y2, y3, y4, y5, y6⟩ := docAt_cells rx; clear rx gx))
          refine (HP3 _).out.mono ?_
          rintro e wp ⟨rfl, rfl⟩
          by_cases hme : m3 = s.size
          · have HV := Lib.hid (HV0.out.trans (HV3.out.trans (show _ = ⟨NM, PB, SY, true, true, true, !ended⟩ by rw [decide_eq_true hme]; rfl)))
            have bm : ((m3 : Int) == (s.size : Int)) = true := by rw [hme]; exact beq_self_eq_true _
            have HME := Lib.hid hme
            clear hme
            obtain ⟨x0, x1, x2, x3, x4, x5, x6⟩ := docAt_cells RH.out
            go_wp2_with (first
              | (refine wpList_store_doc1 33 rfl 4 _ _ rfl (w.heap.size + 1) 6 _ ⟨NM, PB, SY, true, true, true, false⟩ ⟨NM, PB, SY, true, true, true, !ended⟩ rfl rfl RH.out (by decide) sizeBool rfl rfl rfl ?_; intro wx rx gx; have RG := Lib.hid (RG.out.kept gx (by omega)); have RH := Lib.hid rx; have B := Lib.hid (B.out.grown gx B.out.size (fun j hj => by cases hj; omega)); obtain ⟨y0, y1, y2, y3, y4, y5, y6⟩ := docAt_cells rx; clear rx gx)
              | (refine wpList_load_doc 33 rfl _ rfl (w.heap.size + 1) ⟨NM, PB, SY, true, true, true, !ended⟩ _ rfl RH.out Try.underlying33 rfl sizeDoc11 ?_)
              | (refine wpList_store_doc 33 rfl _ _ rfl w.heap.size ⟨NM, PB, SY, true, true, true, !ended⟩ doc0 rfl rfl RG.out sizeDoc11 ?_; intro wy ry gy))
            refine bodyPost_ret (results_cell_row rfl _ _ w.heap.size 33 (docCells ⟨NM, PB, SY, true, true, true, !ended⟩) (0, 0) _ rfl ry Try.underlying33 rfl sizeDoc11) rfl ?_
            exact ⟨by rw [HV.out]; rfl, B.out.grown gy B.out.size (fun j hj => by cases hj; exact Nat.le_refl _)⟩
          have HV := Lib.hid (HV0.out.trans (HV3.out.trans (show _ = ⟨NM, PB, SY, true, true, true, false⟩ by rw [decide_eq_false hme]; rfl)))
          have bm : ((m3 : Int) == (s.size : Int)) = false := by rw [beq_eq_false_iff_ne]; omega
          clear hme
          go_wp2_with (first
            | (refine wpList_load_doc 33 rfl _ rfl (w.heap.size + 1) ⟨NM, PB, SY, true, true, true, false⟩ _ rfl RH.out Try.underlying33 rfl sizeDoc11 ?_)
            | (refine wpList_store_doc 33 rfl _ _ rfl w.heap.size ⟨NM, PB, SY, true, true, true, false⟩ doc0 rfl rfl RG.out sizeDoc11 ?_; intro wy ry gy))
          refine bodyPost_ret (results_cell_row rfl _ _ w.heap.size 33 (docCells ⟨NM, PB, SY, true, true, true, false⟩) (0, 0) _ rfl ry Try.underlying33 rfl sizeDoc11) rfl ?_
          exact ⟨by rw [HV.out]; rfl, B.out.grown gy B.out.size (fun j hj => by cases hj; exact Nat.le_refl _)⟩
end Go.Proofs.Ytbceopiipigljaa
