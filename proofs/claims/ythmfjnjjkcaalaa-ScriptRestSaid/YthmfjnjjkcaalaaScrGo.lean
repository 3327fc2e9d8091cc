/-
  What package script's Find answers: from place to place, by goto.
-/
import Derived.Test.YthmfjnjjkcaalaaScrStep
import Derived.Test.YthmfjnjjkcaalaaP3
namespace Go.Proofs.Ythmfjnjjkcaalaa
open Go.RowKit Go.Lib

theorem bit_at (s : ByteArray) (i : Nat) (h : i < s.size) (c : UInt8) : (((s[i].toNat : Nat) : Int) == (c.toNat : Int)) = decide ((s.data.toList.drop i).head? = some c) := by
  rw [Bool.eq_iff_iff, beq_iff_eq, decide_eq_true_iff, head_at s i h c]
theorem tag_yes (o l : Txt) (h : wordR o l = true) : tagN o l = o.length + 7 := by unfold tagN; rw [if_pos h]
theorem tag_no (o l : Txt) (h : wordR o l = false) : tagN o l = 0 := by unfold tagN; rw [if_neg (by rw [h]; exact Bool.false_ne_true)]

/-- a step within a comment -/
theorem pastIn_any (s : ByteArray) (i st k n st' k' : Nat) (w : World) (hs : s.size ≤ 1048576) (hi : i < s.size) (hst : st = 1 ∨ st = 2) (hk : k ≤ 1048580) (h : stepS st k (s.data.toList.drop i) = some (n, st', k')) :
    Calls Try.prog 30 #[.agg #[.int .i64 (i : Int), .int .i64 (st : Int), .int .i64 (k : Int)], .string s] w fun e w' => e = .returned (.agg #[.int .i64 ((i + n : Nat) : Int), .int .i64 (st' : Int), .int .i64 (k' : Int)]) ∧ Below w.heap.size w w' := by
  have q45 : (((s[i].toNat : Nat) : Int) == 45) = _ := bit_at s i hi 45
  have q62 : (((s[i].toNat : Nat) : Int) == 62) = _ := bit_at s i hi 62
  have h0 : st ≠ 0 := by omega
  by_cases h45 : (s.data.toList.drop i).head? = some 45
  · rw [st_45 st k _ h0 h45] at h
    obtain ⟨rfl, rfl, rfl⟩ : 1 = n ∧ st = st' ∧ k + 1 = k' := by simpa using h
    exact past_45 s i st k w hs hi hk (by rw [q45, decide_eq_true h45])
  rw [decide_eq_false h45] at q45
  by_cases h62 : (s.data.toList.drop i).head? = some 62 ∧ 2 ≤ k
  · rw [st_62 st k _ h0 h45 h62] at h
    obtain ⟨rfl, rfl, rfl⟩ : 1 = n ∧ 0 = st' ∧ 0 = k' := by simpa using h
    exact past_62 s i st k w hs hi q45 (by rw [q62, decide_eq_true h62.1]) (decide_eq_true (by have := h62.2; omega))
  have hb : (((s[i].toNat : Nat) : Int) == 62) = false ∨ (((s[i].toNat : Nat) : Int) == 62) = true ∧ decide ((2 : Int) ≤ (k : Int)) = false := by
    by_cases hh : (s.data.toList.drop i).head? = some 62
    · exact .inr ⟨by rw [q62, decide_eq_true hh], decide_eq_false (fun h2 => h62 ⟨hh, by omega⟩)⟩
    · exact .inl (by rw [q62, decide_eq_false hh])
  rcases hst with rfl | rfl
  · cases hE : endR scL (s.data.toList.drop i)
    · have := past_w1 s i k w hs hi q45 hb
      cases hI : wordR [60] (s.data.toList.drop i)
      · rw [st_1n k _ h45 h62 hE hI] at h
        obtain ⟨rfl, rfl, rfl⟩ : 1 = n ∧ 1 = st' ∧ 0 = k' := by simpa using h
        rw [tag_no _ _ hI] at this
        exact this
      · rw [st_1w k _ h45 h62 hE hI] at h
        obtain ⟨rfl, rfl, rfl⟩ : 8 = n ∧ 2 = st' ∧ 0 = k' := by simpa using h
        rw [tag_yes _ _ hI] at this
        exact this
    · rw [st_1e k _ h45 h62 hE] at h; cases h
  · have := past_w2 s i k w hs hi q45 hb
    cases hO : wordR [60, 47] (s.data.toList.drop i)
    · rw [st_2n k _ h45 h62 hO] at h
      obtain ⟨rfl, rfl, rfl⟩ : 1 = n ∧ 2 = st' ∧ 0 = k' := by simpa using h
      rw [tag_no _ _ hO] at this
      exact this
    · rw [st_2w k _ h45 h62 hO] at h
      obtain ⟨rfl, rfl, rfl⟩ : 9 = n ∧ 1 = st' ∧ 0 = k' := by simpa using h
      rw [tag_yes _ _ hO] at this
      exact this

set_option maxRecDepth 100000 in
set_option maxHeartbeats 2000000 in
/-- a step -/
theorem past_any (s : ByteArray) (i st k n st' k' : Nat) (w : World) (hs : s.size ≤ 1048576) (hi : i < s.size) (hst : st ≤ 2) (hk : k ≤ 1048580) (h : stepS st k (s.data.toList.drop i) = some (n, st', k')) :
    Calls Try.prog 18 #[.agg #[.int .i64 (i : Int), .int .i64 (st : Int), .int .i64 (k : Int)], .string s] w fun e w' => e = .returned (.agg #[.int .i64 ((i + n : Nat) : Int), .int .i64 (st' : Int), .int .i64 (k' : Int)]) ∧ Below w.heap.size w w' := by
  by_cases h0 : st = 0
  · subst h0
    cases hE : endR scL (s.data.toList.drop i)
    · have HB := fun w => Lib.hid (begins s (i : Int) ⟨#[60, 33, 45, 45]⟩ w (by omega) (by decide) (by omega) (by omega))
      rw [begScr_at s i _ (by omega)] at HB
      cases hC : comL.isPrefixOf (lowL (s.data.toList.drop i))
      · rw [st_0n k _ hE hC] at h
        obtain ⟨rfl, rfl, rfl⟩ : 1 = n ∧ 0 = st' ∧ 0 = k' := by simpa using h
        rw [show (⟨#[60, 33, 45, 45]⟩ : ByteArray).data.toList.isPrefixOf (lowL (s.data.toList.drop i)) = false from hC] at HB
        clear hC hE h
        go_enter Try.func18, Try.ntmps18
        go_wp2_with (fail)
        refine (HB _).out.mono ?_
        rintro e w1 ⟨rfl, m1, hw1⟩
        have b1 : Below (((w.alloc (.cells #[.int .i64 (i : Int), .int .i64 0, .int .i64 (k : Int)] 34)).alloc (.cells #[.int .i64 0, .int .i64 0, .int .i64 0] 34))).heap.size ((w.alloc (.cells #[.int .i64 (i : Int), .int .i64 0, .int .i64 (k : Int)] 34)).alloc (.cells #[.int .i64 0, .int .i64 0, .int .i64 0] 34)) w1 := by rw [hw1]; exact dr_below _ _ _
        have p1 := (b1.block w.heap.size (by simp; omega)).trans (heap_alloc2_old w _ _)
        have z1 := (b1.block (w.heap.size + 1) (by simp)).trans (heap_alloc2_new w _ _)
        have B1 := Lib.hid ((((Below.refl _ w).alloc (Nat.le_refl _) (.cells #[.int .i64 (i : Int), .int .i64 0, .int .i64 (k : Int)] 34)).alloc (by simp) (.cells #[.int .i64 0, .int .i64 0, .int .i64 0] 34)).trans (b1.mono (by simp; omega)))
        obtain ⟨x0, x1, x2, x3⟩ := cells_three p1
        clear b1 hw1
        go_wp2_with (first | (refine wpList_store_pl 34 rfl _ _ rfl (w.heap.size + 1) ((i : Int) + 1) 0 0 rfl rfl 0 0 0 z1 sizePl ?_; intro wy ry gy))
        refine bodyPost_ret (results_cell_row rfl _ _ (w.heap.size + 1) 34 (plC ((i : Int) + 1) 0 0) (0, 0) _ rfl ry Try.underlying34 rfl sizePl) rfl ?_
        exact ⟨ret_pl (by omega) (by omega) (by omega), B1.out.grown gy B1.out.size (fun j hj => by cases hj; omega)⟩
      · rw [st_0c k _ hE hC] at h
        obtain ⟨rfl, rfl, rfl⟩ : 4 = n ∧ 1 = st' ∧ 2 = k' := by simpa using h
        rw [show (⟨#[60, 33, 45, 45]⟩ : ByteArray).data.toList.isPrefixOf (lowL (s.data.toList.drop i)) = true from hC] at HB
        clear hC hE h
        go_enter Try.func18, Try.ntmps18
        go_wp2_with (fail)
        refine (HB _).out.mono ?_
        rintro e w1 ⟨rfl, m1, hw1⟩
        have b1 : Below (((w.alloc (.cells #[.int .i64 (i : Int), .int .i64 0, .int .i64 (k : Int)] 34)).alloc (.cells #[.int .i64 0, .int .i64 0, .int .i64 0] 34))).heap.size ((w.alloc (.cells #[.int .i64 (i : Int), .int .i64 0, .int .i64 (k : Int)] 34)).alloc (.cells #[.int .i64 0, .int .i64 0, .int .i64 0] 34)) w1 := by rw [hw1]; exact dr_below _ _ _
        have p1 := (b1.block w.heap.size (by simp; omega)).trans (heap_alloc2_old w _ _)
        have z1 := (b1.block (w.heap.size + 1) (by simp)).trans (heap_alloc2_new w _ _)
        have B1 := Lib.hid ((((Below.refl _ w).alloc (Nat.le_refl _) (.cells #[.int .i64 (i : Int), .int .i64 0, .int .i64 (k : Int)] 34)).alloc (by simp) (.cells #[.int .i64 0, .int .i64 0, .int .i64 0] 34)).trans (b1.mono (by simp; omega)))
        obtain ⟨x0, x1, x2, x3⟩ := cells_three p1
        clear b1 hw1
        go_wp2_with (first | (refine wpList_store_pl 34 rfl _ _ rfl (w.heap.size + 1) ((i : Int) + 4) 1 2 rfl rfl 0 0 0 z1 sizePl ?_; intro wy ry gy))
        refine bodyPost_ret (results_cell_row rfl _ _ (w.heap.size + 1) 34 (plC ((i : Int) + 4) 1 2) (0, 0) _ rfl ry Try.underlying34 rfl sizePl) rfl ?_
        exact ⟨ret_pl (by omega) (by omega) (by omega), B1.out.grown gy B1.out.size (fun j hj => by cases hj; omega)⟩
    · rw [st_0e k _ hE] at h; cases h
  · have hst' : st = 1 ∨ st = 2 := by omega
    have HP := fun w => Lib.hid (pastIn_any s i st k n st' k' w hs hi hst' hk h)
    have b0 : ((st : Int) != 0) = true := by rw [bne_iff_ne]; omega
    obtain ⟨j, hj⟩ : ∃ j, i + n = j := ⟨_, rfl⟩
    rw [hj] at HP ⊢
    clear hst' h hj h0
    go_enter Try.func18, Try.ntmps18
    go_wp2_with (fail)
    refine (HP _).out.mono ?_
    rintro e w1 ⟨rfl, b1⟩
    have z1 := (b1.block (w.heap.size + 1) (by simp)).trans (heap_alloc2_new w _ _)
    have B1 := Lib.hid ((((Below.refl _ w).alloc (Nat.le_refl _) (.cells #[.int .i64 (i : Int), .int .i64 (st : Int), .int .i64 (k : Int)] 34)).alloc (by simp) (.cells #[.int .i64 0, .int .i64 0, .int .i64 0] 34)).trans (b1.mono (by simp; omega)))
    clear b1
    go_wp2_with (first | (refine wpList_store_pl 34 rfl _ _ rfl (w.heap.size + 1) (j : Int) (st' : Int) (k' : Int) rfl rfl 0 0 0 z1 sizePl ?_; intro wy ry gy))
    refine bodyPost_ret (results_cell_row rfl _ _ (w.heap.size + 1) 34 (plC (j : Int) (st' : Int) (k' : Int)) (0, 0) _ rfl ry Try.underlying34 rfl sizePl) rfl ?_
    exact ⟨rfl, B1.out.grown gy B1.out.size (fun j hj => by cases hj; omega)⟩

set_option maxRecDepth 100000 in
set_option maxHeartbeats 2000000 in
/-- does it end there? -/
theorem plEnds_any (s : ByteArray) (i st k : Nat) (w : World) (hs : s.size ≤ 1048576) (hi : i < s.size) :
    Calls Try.prog 17 #[.agg #[.int .i64 (i : Int), .int .i64 (st : Int), .int .i64 (k : Int)], .string s] w fun e w' => e = .returned (.bool (decide (st ≠ 2) && endR scL (s.data.toList.drop i))) ∧ Below w.heap.size w w' := by
  have HE := fun w => Lib.hid (show Calls Try.prog 15 #[.string s, .int .i64 (i : Int), .string ⟨#[115, 99, 114, 105, 112, 116]⟩] w fun e w' => e = .returned (.bool (endR scL (s.data.toList.drop i))) ∧ Below w.heap.size w w' from by
    have := ends_any s (i : Int) ⟨#[115, 99, 114, 105, 112, 116]⟩ w hs (by decide) (by omega)
    rwa [endV_in] at this)
  by_cases h2 : st = 2
  · subst h2
    clear HE
    go_enter Try.func17, Try.ntmps17
    go_wp2
    go_ret
    exact ⟨rfl, (Below.refl _ w).alloc (Nat.le_refl _) _⟩
  · have b2 : ((st : Int) != 2) = true := by rw [bne_iff_ne]; omega
    rw [decide_eq_true (show st ≠ 2 from h2), Bool.true_and]
    obtain ⟨E, hE⟩ : ∃ E, endR scL (s.data.toList.drop i) = E := ⟨_, rfl⟩
    rw [hE] at HE ⊢
    clear hE h2
    go_enter Try.func17, Try.ntmps17
    go_wp2_with (go_at_call 15; refine (HE _).out.mono ?_; rintro e w' ⟨rfl, b1⟩)
    go_ret
    exact ⟨rfl, ((Below.refl _ w).alloc (Nat.le_refl _) _).trans (b1.mono (by simp))⟩

theorem step_ends (st k : Nat) (l : Txt) (hst : st ≤ 2) : (decide (st ≠ 2) && endR scL l) = true ↔ stepS st k l = none := by
  constructor
  · intro h
    rw [Bool.and_eq_true, decide_eq_true_iff] at h
    obtain ⟨h1, h2⟩ := h
    have hh : l.head? = some 60 := by
      cases l with
      | nil => rw [endR_nil] at h2; cases h2
      | cons c t => rw [endR_head scL c t h2]; rfl
    rcases (show st = 0 ∨ st = 1 by omega) with rfl | rfl
    · exact st_0e k l h2
    · exact st_1e k l (by rw [hh]; decide) (by rw [hh]; intro h; exact absurd h.1 (by decide)) h2
  · intro h
    obtain ⟨h1, h2⟩ := step_none st k l h
    rw [h1, Bool.and_true, decide_eq_true_iff]; omega
theorem step_less (st k : Nat) (l : Txt) (n st' k' i : Nat) (h : stepS st k l = some (n, st', k')) (hk : k ≤ i) : (st' = 0 → k' = 0) ∧ k' ≤ i + n := by
  unfold stepS at h
  repeat' split at h
  all_goals
    first
      | (simp only [Option.some.injEq, Prod.mk.injEq] at h; omega)
      | cases h

set_option maxRecDepth 100000 in
set_option maxHeartbeats 4000000 in
theorem find13_any (s : ByteArray) (a : Int) (w : World) (hs : s.size ≤ 1048576) (_ha : -9223372036854775808 ≤ a ∧ a ≤ 9223372036854775807) :
    Calls Try.prog 10 #[.string s, .int .i64 a] w fun e w' => e = .returned (.tuple #[.int .i64 ((scrP s.data.toList a).1 : Int), .int .i64 ((scrP s.data.toList a).2 : Int)]) ∧ Below w.heap.size w w' := by
  obtain ⟨R1, hR1⟩ : ∃ R, (scrP s.data.toList a).1 = R := ⟨_, rfl⟩
  obtain ⟨R2, hR2⟩ : ∃ R, (scrP s.data.toList a).2 = R := ⟨_, rfl⟩
  obtain ⟨i0, hi0⟩ : ∃ i, plN s.data.toList.length a = i := ⟨_, rfl⟩
  have hmx : max (0 : Int) (min a (s.size : Int)) = (i0 : Int) := by
    rw [← hi0, ← Lib.size_eq]; unfold plN; omega
  have hi1 : i0 ≤ s.size := by rw [← hi0, ← Lib.size_eq]; unfold plN; omega
  have H0 : Hid (i0 + (scrV 0 0 (s.data.toList.drop i0)).1 = R1 ∧ (scrV 0 0 (s.data.toList.drop i0)).2 = R2) := Lib.hid (by
    unfold scrP at hR1 hR2
    rw [hi0] at hR1 hR2
    exact ⟨hR1, hR2⟩)
  rw [hR1, hR2]
  clear hR1 hR2 hi0
  have HMX := Lib.hid hmx
  have HEE := fun (i st k : Nat) (h : i < s.size) w => Lib.hid (plEnds_any s i st k w hs h)
  have HPP := fun (i st k n st' k' : Nat) (h1 : i < s.size) (h2 : st ≤ 2) (h3 : k ≤ 1048580) (h4 : stepS st k (s.data.toList.drop i) = some (n, st', k')) w => Lib.hid (past_any s i st k n st' k' w hs h1 h2 h3 h4)
  go_enter Try.func10, Try.ntmps10
  go_wp2
  refine wp_scope_label 0 (fun a' wr => ∃ (i st k : Nat) (u1 u2 u3 u4 u5 u7 u8 u9 u10 u11 u12 u13 u14 u15 u16 u17 u18 u19 u20 u21 u22 u23 u24 u25 u26 u27 u28 u29 : Value), a' = { tmps := #[.string s, u1, u2, u3, u4, u5, .pointer (some ⟨w.heap.size, 0, none⟩), u7, u8, u9, u10, u11, u12, u13, u14, u15, u16, u17, u18, u19, u20, u21, u22, u23, u24, u25, u26, u27, u28, u29], defers := [] } ∧ wr.heap[w.heap.size]? = some (.cells (plC (i : Int) (st : Int) (k : Int)) 34 (0, 0)) ∧ w.heap.size < wr.heap.size ∧ Below w.heap.size w wr ∧ i ≤ s.size ∧ st ≤ 2 ∧ (st = 0 → k = 0) ∧ k ≤ i ∧ (i + (scrV st k (s.data.toList.drop i)).1 = R1 ∧ (scrV st k (s.data.toList.drop i)).2 = R2))
    (fun _ wr => s.size - (intOf ((wr.cell? ⟨w.heap.size, 0, none⟩).getD undef)).toNat) rfl ?_ ?_
  · rintro a' wr ⟨i, st, k, u1, u2, u3, u4, u5, u7, u8, u9, u10, u11, u12, u13, u14, u15, u16, u17, u18, u19, u20, u21, u22, u23, u24, u25, u26, u27, u28, u29, rfl, hp, hsz, hbw, hle, hst, hz, hki, hR⟩
    clear hmx HMX H0 hi1
    obtain ⟨x0, x1, x2, x3⟩ := cells_three hp
    have X0 := Lib.hid x0
    have HP := Lib.hid hp
    have HBW := Lib.hid hbw
    have HR := Lib.hid hR
    clear hp hbw hR
    by_cases hend : i = s.size
    · have HN := Lib.hid (scr_done s.data.toList i st k R1 R2 (by rw [← Lib.size_eq]; exact hend) HR.out)
      have bi : ((i : Int) == (s.size : Int)) = true := by rw [beq_iff_eq]; omega
      have HI := Lib.hid hend
      clear hend HEE HPP HR hle
      go_wp2
      go_quiet (fail)
      go_wp2
      simp only [Exit.jump]
      go_ret2
      exact ⟨ret_two (by rw [HN.out.1]) (by rw [HN.out.2]), HBW.out.trans (by first | exact dr_below _ _ _ | exact (dr_below _ _ _).mono (by omega))⟩
    · have hlt : i < s.size := by omega
      have bi : ((i : Int) == (s.size : Int)) = false := by rw [beq_eq_false_iff_ne]; omega
      have hi20 : i ≤ 1048576 := by omega
      have hk20 : k ≤ 1048580 := by omega
      have HE := fun w => HEE i st k hlt w
      clear hend hle HEE
      cases hE : decide (st ≠ 2) && endR scL (s.data.toList.drop i)
      · rw [hE] at HE
        cases hS : stepS st k (s.data.toList.drop i) with
        | none => rw [(step_ends st k _ hst).2 hS] at hE; cases hE
        | some r =>
          obtain ⟨n, st', k'⟩ := r
          have HPA := fun w => HPP i st k n st' k' hlt hst hk20 hS w
          have hln : s.data.toList.drop i ≠ [] := drop_ne _ _ (by rw [← Lib.size_eq]; exact hlt)
          have hsl := step_less st k _ n st' k' i hS hki
          have hss := step_some st k _ hln n st' k' hS
          rw [List.length_drop, ← Lib.size_eq] at hss
          have HN := Lib.hid (scr_go s.data.toList i st k n st' k' R1 R2 (by rw [← Lib.size_eq]; exact hlt) hS HR.out)
          obtain ⟨j, hj⟩ : ∃ j, i + n = j := ⟨_, rfl⟩
          rw [hj] at HPA HN hsl
          have hjn : i < j ∧ j ≤ s.size := by omega
          have hs2 := hss.2.2 hst
          clear hE hS hln hss hj HPP HR
          go_wp2_with (first
            | (go_at_call 17; refine (HE _).out.mono ?_; rintro e w1 ⟨rfl, b1⟩; have p1 := (b1.block w.heap.size (by omega)).trans HP.out; have B1 := Lib.hid (HBW.out.trans (b1.mono (by omega))); have s1 : w.heap.size < w1.heap.size := Nat.lt_of_lt_of_le hsz b1.size; obtain ⟨y0, y1, y2, y3⟩ := cells_three p1; have P1 := Lib.hid p1; clear b1 p1 x0 x1 x2 x3)
            | (go_at_call 18; refine (HPA _).out.mono ?_; rintro e w2 ⟨rfl, b2⟩; have P2 := Lib.hid ((b2.block w.heap.size (by omega)).trans P1.out); have B2 := Lib.hid (B1.out.trans (b2.mono (by omega))); have s2 := Nat.lt_of_lt_of_le s1 b2.size; clear b2)
            | (refine wpList_store_pl 34 rfl _ _ rfl w.heap.size (j : Int) (st' : Int) (k' : Int) rfl rfl (i : Int) (st : Int) (k : Int) P2.out sizePl ?_; intro wy ry gy))
          go_step3
          have s3 := Nat.lt_of_lt_of_le s2 gy.size
          refine ⟨rfl, ⟨j, st', k', _, _, _, _, _, _, _, _, _, _, _, _, _, _, _, _, _, _, _, _, _, _, _, _, _, _, _, _, rfl, ry, s3, B2.out.grown gy (by omega) (fun q hq => by cases hq; omega), hjn.2, hs2, hsl.1, hsl.2, HN.out⟩, ?_⟩
          have z0 := (cells_three ry).1
          rw [z0, X0.out]
          simp [intOf]; omega
      · rw [hE] at HE
        have HN := Lib.hid (scr_halt s.data.toList i st k R1 R2 (by rw [← Lib.size_eq]; exact hlt) ((step_ends st k _ hst).1 hE) HR.out)
        clear hE HPP HR
        go_wp2_with (go_at_call 17; refine (HE _).out.mono ?_; rintro e w1 ⟨rfl, b1⟩; have p1 := (b1.block w.heap.size (by omega)).trans HP.out; have B1 := Lib.hid (HBW.out.trans (b1.mono (by omega))); obtain ⟨y0, y1, y2, y3⟩ := cells_three p1; clear b1 p1 x0 x1 x2 x3)
        go_quiet (fail)
        go_wp2
        simp only [Exit.jump]
        go_ret2
        exact ⟨ret_two (by rw [HN.out.1]) (by rw [HN.out.2]), B1.out.trans (by first | exact dr_below _ _ _ | exact (dr_below _ _ _).mono (by omega))⟩
  · intro hpass
    go_wp2
    go_step3
    rename_i K hK
    refine hK _ _ (hpass _ _ ?_)
    exact ⟨i0, 0, 0, _, _, _, _, _, _, _, _, _, _, _, _, _, _, _, _, _, _, _, _, _, _, _, _, _, _, _, _, rfl, heap_alloc_new w _, by simp, (Below.refl _ w).alloc (Nat.le_refl _) _, hi1, by omega, fun _ => rfl, by omega, H0.out⟩
end Go.Proofs.Ythmfjnjjkcaalaa
