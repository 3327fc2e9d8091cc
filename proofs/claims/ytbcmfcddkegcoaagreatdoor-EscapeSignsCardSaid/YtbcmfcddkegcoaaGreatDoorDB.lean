/-
  Texts laid together: DrvDo, DrvCode.
-/
import Derived.Test.YtbcmfcddkegcoaaGreatDoorDA
import Derived.Test.YtbcmfcddkegcoaaGreatDoorTB
/-! What the document's Drive of layer 16 answers. -/
namespace Go.Proofs.YtbcmfcddkegcoaaGreatDoor
open Go.RowKit Go.Lib

/-! a step, as it is asked for -/
theorem drv_no (l : Txt) (hl : l ≠ []) (h : (nx l).2.2 = false) : drvP l = drvP (l.drop (nx l).2.1) := by
  rw [drv_step l hl]
  unfold drvS
  rw [h, if_neg Bool.false_ne_true]; rfl
theorem drv_plain (l : Txt) (hl : l ≠ []) (h : (nx l).2.2 = true) (hs : ¬ SpecT (nx l).1) : drvP l = (nx l).1 :: drvP (l.drop (nx l).2.1) := by
  rw [drv_step l hl]
  unfold drvS
  rw [if_pos h, if_neg hs]; rfl
theorem drv_spec (l : Txt) (hl : l ≠ []) (h : (nx l).2.2 = true) (hs : SpecT (nx l).1) :
    drvP l = (nx l).1 :: ((restK (drvN (nx l).1.name) (nx l).1.name (l.drop (nx l).2.1)).1 ++ drvP ((l.drop (nx l).2.1).drop (restK (drvN (nx l).1.name) (nx l).1.name (l.drop (nx l).2.1)).2)) := by
  rw [drv_step l hl]
  unfold drvS
  rw [if_pos h, if_pos hs, List.drop_drop]; rfl
theorem spec_long (l : Txt) (h : (nx l).2.2 = true) (hs : SpecT (nx l).1) : 3 ≤ (nx l).2.1 ∧ (nx l).1.name.length ≤ 9 := by
  have hn : (nx l).1.name.length ≤ 9 := by
    obtain ⟨p, hp, e, -⟩ := st_some _ hs.2
    rw [← e]
    exact (show ∀ p ∈ stTab, p.1.length ≤ 9 by decide) p hp
  refine ⟨?_, hn⟩
  have h1 := hs.1
  rcases nx_cases l with ⟨hb, -, e⟩ | ⟨hb, t, n, hr, e⟩ | ⟨-, hb, e⟩ | ⟨-, -, hb, e⟩ | ⟨-, -, -, hb, e⟩ | ⟨-, -, -, -, -, -, hb, e⟩ | ⟨-, -, -, -, -, hb, e⟩
  all_goals rw [e] at h h1 ⊢
  all_goals simp only at h h1 ⊢
  · cases h
  · obtain ⟨e1, -⟩ := tag_ends l t n hr
    have := (tg_len l hb).2
    omega
  · exact absurd h1 (show ¬ (3 : Int) = 1 by decide)
  · exact absurd h1 (show ¬ (4 : Int) = 1 by decide)
  · cases h
  · cases h
  · exact absurd h1 (show ¬ (0 : Int) = 1 by decide)
theorem spec_rest (nm l : Txt) (hs : drvN nm ≠ 0) : ∀ t ∈ (restK (drvN nm) nm l).1, t.attrs = [] := by
  obtain ⟨x, ⟨e, -⟩ | e⟩ := rest_shape nm l hs
  all_goals rw [e]; intro t ht
  · unfold emitT at ht
    split at ht
    · cases ht
    · rw [List.mem_singleton.1 ht]; rfl
  · rcases List.mem_append.1 ht with h | h
    · unfold emitT at h
      split at h
      · cases h
      · rw [List.mem_singleton.1 h]; rfl
    · rw [List.mem_singleton.1 h]
theorem restV_at (st : Int) (nm s : Txt) (k : Nat) (hk : k ≤ s.length) : restV st nm s (k : Int) = ((restK st nm (s.drop k)).1, k + (restK st nm (s.drop k)).2) := by
  unfold restV; rw [atN_in s k hk]

end Go.Proofs.YtbcmfcddkegcoaaGreatDoor

/-! What package drive's Drive answers. -/
namespace Go.Proofs.YtbcmfcddkegcoaaGreatDoor
open Go.RowKit Go.Lib

/-- what a step is when what was read is no start tag behind which a text is read otherwise -/
theorem drv_state (t : TokP) (st : Int) (h : (if t.kind = 1 then drvN t.name else 0) = st) : (st = 0 → ¬ SpecT t) ∧ (st ≠ 0 → SpecT t ∧ drvN t.name = st) := by
  by_cases hk : t.kind = 1
  · rw [if_pos hk] at h
    exact ⟨fun h0 e => e.2 (h.trans h0), fun h0 => ⟨⟨hk, fun e => h0 (h.symm.trans e)⟩, h⟩⟩
  · rw [if_neg hk] at h
    exact ⟨fun _ e => hk e.1, fun h0 => absurd h.symm h0⟩

set_option maxRecDepth 100000 in
set_option maxHeartbeats 8000000 in
/-- P16.2 -/
theorem drvDrive_any (s : ByteArray) (w : World) (hs : s.size ≤ 1048576) (h : LaidAt w) :
    Calls Tryz.prog 27 #[.string s] w (TellS (drvL s.data.toList) w) := by
  obtain ⟨i0, hi0, hz0, hz1, hz2⟩ := info_parts info_tok
  obtain ⟨T, hT⟩ : ∃ T, drvL s.data.toList = T := ⟨_, rfl⟩
  rw [hT]
  have HT0 : Hid (joinL (drvP s.data.toList) = T) := Lib.hid hT
  have HW := Lib.hid h
  have HNX := fun (i : Nat) (h : i < s.size) w hl => Lib.hid (tokNextH_any s (i : Int) w hs (by omega) hl)
  clear hT h
  go_enter Tryz.func27, Tryz.ntmps27
  go_wp2
  go_loopw [3, 4] (fun v3 v4 wr => ∃ (i : Nat) (Q : List TkV), v4 = .int .i64 (i : Int) ∧ OwnToks wr w.heap.size v3 Q ∧ Below w.heap.size w wr ∧ i ≤ s.size ∧ Q.length ≤ i ∧ Hid (joinL (Q.map TkV.t ++ drvP (s.data.toList.drop i)) = T) ∧ Hid (∀ t ∈ Q.map TkV.t, t.text.length ≤ 16777216 ∧ JustT t) ∧ Hid (∀ q ∈ Q, NewAt w.heap.size q)) (fun _ v _ => s.size - (intOf v).toNat)
  case atStart => exact ⟨0, [], rfl, ownToks_nil _ _, Below.refl _ _, Nat.zero_le _, Nat.zero_le _, Lib.hid (by rw [List.drop_zero]; exact HT0.out), Lib.hid (fun t h => by cases h), Lib.hid (fun q h => by cases h)⟩
  case round =>
    obtain ⟨i, Q, rfl, ho, hb, hi, hql, HT, HX, HN0⟩ := hrel
    have HO := Lib.hid ho
    have HB := Lib.hid hb
    have hbs := hb.size
    clear ho hb HT0
    by_cases hlt : i < s.size
    · have hne : s.data.toList.drop i ≠ [] := fun e => by
        have := (drop_nil s i hi).1 e; omega
      have hin := nx_in (s.data.toList.drop i)
      have htx := nx_text (s.data.toList.drop i)
      have hjt := just_nx (s.data.toList.drop i)
      have hno := drv_no (s.data.toList.drop i) hne
      have hpl := drv_plain (s.data.toList.drop i) hne
      have hsp := drv_spec (s.data.toList.drop i) hne
      have hlo := spec_long (s.data.toList.drop i)
      have hnl := nx_name (s.data.toList.drop i)
      have hzt := nx_zero (s.data.toList.drop i)
      rw [List.length_drop, ← Lib.size_eq] at hin htx hnl
      have hm1 := hin.2 hne
      have hm2 := hin.1
      have HN := fun w hl => HNX i hlt w hl
      simp only [nxV_in s.data.toList i (by rw [← Lib.size_eq]; exact hi)] at HN
      rw [List.drop_drop] at hno hpl hsp
      obtain ⟨t0, ht0⟩ : ∃ t, (nx (s.data.toList.drop i)).1 = t := ⟨_, rfl⟩
      obtain ⟨m, hm⟩ : ∃ m, (nx (s.data.toList.drop i)).2.1 = m := ⟨_, rfl⟩
      obtain ⟨ok0, hok⟩ : ∃ m, (nx (s.data.toList.drop i)).2.2 = m := ⟨_, rfl⟩
      simp only [ht0, hm, hok] at HN hno hpl hsp hlo hm1 hm2 htx hjt hnl hzt
      have HTT := Lib.hid htx
      have HJT := Lib.hid hjt
      have HNO := Lib.hid hno
      have HPL := Lib.hid hpl
      have HSP := Lib.hid hsp
      have HLO := Lib.hid hlo
      have HBH := fun ad len cap w h => Lib.hid (drvBehind_any t0 ad len cap w (by omega) h)
      obtain ⟨st, hst⟩ : ∃ st, (if t0.kind = 1 then drvN t0.name else 0) = st := ⟨_, rfl⟩
      rw [hst] at HBH
      have HSTT := Lib.hid (drv_state t0 st hst)
      have HZT := Lib.hid hzt
      clear ht0 hm hok htx hin hne HNX hjt hno hpl hsp hlo hnl hzt hst
      go_wp2_with (fail)
      refine (HN _ (HW.out.below HB.out)).out.mono ?_
      rintro e w5 ⟨t, ad, len, cap, n, ok, rfl, hr, hv, b5, hf⟩
      simp only [Prod.mk.injEq] at hv
      obtain ⟨rfl, rfl, rfl⟩ := hv
      have HO5 := Lib.hid (HO.out.below b5)
      have HA5 := Lib.hid (attOk_new (q := ⟨t0, ad, len, cap⟩) HO.out hr hf)
      have HNA := Lib.hid (show NewAt w.heap.size ⟨t0, ad, len, cap⟩ from hf.elim .inl (fun h => .inr fun k hk => Nat.le_trans HB.out.size (h k hk)))
      have B5 := Lib.hid (HB.out.trans (b5.mono HB.out.size))
      have hbs5 := B5.out.size
      have HW5 := Lib.hid (show wr.heap.size ≤ w5.heap.size from b5.size)
      have HBB := fun w h => Lib.hid (HBH ad len cap w h).out
      clear b5 hr hf HN HBH
      unfold tokA
      cases ok0
      · have H0 : st = 0 := by
          by_cases h0 : st = 0
          · exact h0
          · have e := (HSTT.out.2 h0).1.1
            rw [HZT.out (by first | rfl | trivial)] at e
            exact absurd e (by decide)
        subst H0
        have HS := Lib.hid (show joinL (Q.map TkV.t ++ drvP (s.data.toList.drop (i + m))) = T by rw [← HNO.out (by first | rfl | trivial)]; exact HT.out)
        have A6 := Lib.hid (B5.out.alloc hbs5 (.cells #[.int .i64 t0.kind, .string ⟨t0.name.toArray⟩, .string ⟨t0.text.toArray⟩, .slice ad len cap, .bool t0.self] 31))
        have HTA := Lib.hid (tokAt_new w5 t0 ad len cap 31)
        have HO6 := Lib.hid (HO5.out.alloc (.cells #[.int .i64 t0.kind, .string ⟨t0.name.toArray⟩, .string ⟨t0.text.toArray⟩, .slice ad len cap, .bool t0.self] 31))
        clear HNO HPL HSP HLO HSTT HZT HNA HA5
        go_wp2_with (first
          | (refine wpList_load_tok rfl _ rfl w5.heap.size t0 ad len cap rfl HTA.out ?_)
          | (go_at_call 52; refine (HBB _ (HW.out.below A6.out)).out.mono ?_; rintro e w7 ⟨rfl, b7⟩; have HO7 := Lib.hid (HO6.out.below b7); have B7 := Lib.hid (A6.out.trans (b7.mono A6.out.size)); clear b7))
        go_roundw
        case rel => exact ⟨i + m, Q, by first | rfl | trivial | go_num, HO7.out, B7.out, by omega, by omega, HS, HX, HN0⟩
        case measure => simp [intOf]; omega
      · have HX2 : Hid (∀ t ∈ (Q ++ [(⟨t0, ad, len, cap⟩ : TkV)]).map TkV.t, t.text.length ≤ 16777216 ∧ JustT t) := Lib.hid (by
          intro t ht
          rw [List.map_append, List.mem_append] at ht
          rcases ht with h | h
          · exact HX.out t h
          · simp only [List.map_cons, List.map_nil, List.mem_cons, List.not_mem_nil, or_false] at h
            rw [h]
            have := HTT.out
            exact ⟨by omega, HJT.out⟩)
        have HN2 : Hid (∀ q ∈ Q ++ [(⟨t0, ad, len, cap⟩ : TkV)], NewAt w.heap.size q) := Lib.hid (by
          intro q hq
          rcases List.mem_append.1 hq with h | h
          · exact HN0.out q h
          · rw [List.mem_singleton.1 h]; exact HNA.out)
        have HO6 := Lib.hid ((HO5.out.alloc (.cells #[.int .i64 t0.kind, .string ⟨t0.name.toArray⟩, .string ⟨t0.text.toArray⟩, .slice ad len cap, .bool t0.self] 31)).alloc (.cells #[.int .i64 t0.kind, .string ⟨t0.name.toArray⟩, .string ⟨t0.text.toArray⟩, .slice ad len cap, .bool t0.self] 31))
        clear HZT HNA
        go_wp2_with (at_builtin; refine wpList_append_own_at _ rfl _ _ 32 rfl w.heap.size 31 i0 _ 5 72 Tryz.underlying32 hi0 hz0 hz1 hz2 rfl (by decide) _ Q.length (cellsT Q) rfl (HO6.out).1 ⟨w5.heap.size + 1, 0, none⟩ 1 1 (cellsT [⟨t0, ad, len, cap⟩]) rfl rfl ?c1 ?c2 ?c3 ?c4 ?c5 ?_)
        case c1 => first | exact new_five_at _ ⟨t0, ad, len, cap⟩ _ _ (by simp) | (intro j u hj; rw [cellsT_one] at hj; exact hj)
        case c2 => exact five_one _
        case c3 => first | (simp [maxLen]; done) | (simp [maxLen]; omega) | omega
        case c4 => first | decide | omega
        case c5 => first | omega | (simp; omega)
        intro v6 w6 hown1 hgr1 _ hat1
        have HP := Lib.hid (toks_push HO6.out (HA5.out.below (((Below.refl _ w5).alloc (Nat.le_refl _) _).alloc (by simp) _)) ((B5.out.alloc hbs5 _).alloc (by simp; omega) _) (Nat.le_refl _) hown1 hgr1 (by simpa using hat1))
        have HBX := Lib.hid (tokAt_row (w := w6) (g := w5.heap.size) (t := t0) (ad := ad) (len := len) (cap := cap) ((hgr1.block w5.heap.size (by simp; try omega) (fun e => by have := (HO.out.lt _ e.symm).2; have := HW5.out; omega)).trans ((Below.heap_alloc _ _ _ (by simp)).trans (heap_alloc_new w5 _))))
        have hs6 : w.heap.size ≤ w6.heap.size := HP.out.2.size
        clear hown1 hgr1 hat1
        by_cases h0 : st = 0
        · have HS := Lib.hid (show joinL ((Q ++ [(⟨t0, ad, len, cap⟩ : TkV)]).map TkV.t ++ drvP (s.data.toList.drop (i + m))) = T by
            have := HT.out
            rw [HPL.out (by first | rfl | trivial) (HSTT.out.1 h0)] at this
            rw [List.map_append, List.append_assoc]; exact this)
          subst h0
          clear HNO HPL HSP HLO HSTT
          go_wp2_with (first
            | (refine wpList_load_tok rfl _ rfl w5.heap.size t0 ad len cap rfl HBX.out ?_)
            | (go_at_call 52; refine (HBB _ (HW.out.below HP.out.2)).out.mono ?_; rintro e w7 ⟨rfl, b7⟩; have HO7 := Lib.hid (HP.out.1.below b7); have B7 := Lib.hid (HP.out.2.trans (b7.mono HP.out.2.size)); clear b7))
          go_roundw
          case rel => exact ⟨i + m, Q ++ [⟨t0, ad, len, cap⟩], by first | rfl | trivial | go_num, HO7.out, B7.out, by omega, by simp; omega, HS, HX2, HN2⟩
          case measure => simp [intOf]; omega
        · obtain ⟨hsp, hst⟩ := HSTT.out.2 h0
          have HL := Lib.hid (HLO.out (by first | rfl | trivial) hsp)
          have hm3 := HL.out.1
          have HS1 := HSP.out (by first | rfl | trivial) hsp
          rw [hst] at HS1
          have him : i + m ≤ s.size := by omega
          have HRV := restV_at st t0.name s.data.toList (i + m) (by rw [← Lib.size_eq]; exact him)
          have HRS := spec_rest t0.name (s.data.toList.drop (i + m)) hsp.2
          have HRI := rest_in st t0.name (s.data.toList.drop (i + m))
          have HRJ := just_rest st t0.name (s.data.toList.drop (i + m))
          rw [hst] at HRS
          obtain ⟨nm, hnm⟩ : ∃ nm : ByteArray, (⟨t0.name.toArray⟩ : ByteArray) = nm := ⟨_, rfl⟩
          have hnm2 : nm.data.toList = t0.name := by rw [← hnm, List.toList_toArray]
          have HRR := fun w h => tokRestG_any s ((i + m : Nat) : Int) st nm w hs (by rw [Lib.size_eq, hnm2]; have := HL.out.2; omega) (by omega) h
          simp only [hnm2, HRV] at HRR
          obtain ⟨R, hR⟩ : ∃ R, restK st t0.name (s.data.toList.drop (i + m)) = R := ⟨_, rfl⟩
          rw [hR, List.drop_drop] at HS1
          rw [hR] at HRS HRI HRJ
          simp only [hR] at HRR
          rw [List.length_drop, ← Lib.size_eq] at HRI
          obtain ⟨R1, R2⟩ := R
          simp only at HS1 HRS HRI HRR HRJ
          obtain ⟨HRI1, HRI2⟩ := HRI
          have HI2 := Lib.hid HRI2
          have HRJ1 := Lib.hid HRJ
          have HS := Lib.hid (show joinL ((Q ++ [(⟨t0, ad, len, cap⟩ : TkV)]).map TkV.t ++ (R1 ++ drvP (s.data.toList.drop (i + m + R2)))) = T by
            have := HT.out
            rw [HS1] at this
            rw [List.map_append, List.append_assoc]; exact this)
          have HRS' := Lib.hid HRS
          have hst0 : (st == 0) = false := beq_eq_false_iff_ne.2 h0
          have hst1 : (st != 0) = true := by rw [bne, hst0]; rfl
          have HNM := Lib.hid hnm
          have hlt5 : w5.heap.size < w6.heap.size := by
            have := block_lt_of_cell HBX.out.1
            exact this
          have HLT := Lib.hid hlt5
          have cR := fun u h => Lib.hid (show Calls Tryz.prog 53 #[.string s, .int .i64 ((i : Int) + (m : Int)), .int .i64 st, .string nm] u fun e v => ∃ v' Q', e = .returned (.tuple #[v', .int .i64 ((i : Int) + (m : Int) + (R2 : Int))]) ∧ OwnToks v u.heap.size v' Q' ∧ Q'.map TkV.t = R1 ∧ Q'.length ≤ 2 ∧ Below u.heap.size u v from by
            have := HRR u h
            rw [Int.natCast_add] at this
            refine this.mono ?_
            rintro e v ⟨v', Q', n', rfl, h1, h2, h3, h4, h5⟩
            simp only [Prod.mk.injEq] at h2
            obtain ⟨h2, rfl⟩ := h2
            exact ⟨v', Q', by simp only [Int.natCast_add], h1, h2, h3, h5⟩)
          clear HRR hlt5 HNO HPL HSP HLO HSTT hsp HRV HS1 HRS HRI2 HRJ hR h0 hst hnm hnm2
          go_wp2_with (first
            | (refine wpList_load_tok rfl _ rfl w5.heap.size t0 ad len cap rfl HBX.out ?_)
            | (go_at_call 52; refine (HBB _ (HW.out.below HP.out.2)).out.mono ?_; rintro e w7 ⟨rfl, b7⟩; have HO7 := Lib.hid (HP.out.1.below b7); have B7 := Lib.hid (HP.out.2.trans (b7.mono HP.out.2.size)); have x1 := (HBX.out.below b7 HLT.out).2.1; rw [HNM.out] at x1; clear b7)
            | (go_at_call 53; refine (cR _ (HW.out.below B7.out)).out.mono ?_; rintro e w8 ⟨v', Q', rfl, ho8, hq8, hl8, b8⟩; have HO8 := Lib.hid (HO7.out.below b8); have B8 := Lib.hid (B7.out.trans (b8.mono B7.out.size)); have HOQ := Lib.hid ho8; have HQQ := Lib.hid hq8; have HQL := Lib.hid hl8; have HQA := Lib.hid (show ∀ q ∈ Q', q.t.attrs = [] from fun q hq => HRS'.out q.t (by rw [← hq8]; exact List.mem_map.2 ⟨q, hq, rfl⟩)); clear b8 ho8 hq8 hl8)
            | (refine wpList_append_toks rfl _ _ rfl w.heap.size _ v6 v' (Q ++ [(⟨t0, ad, len, cap⟩ : TkV)]) Q' rfl rfl HO8.out HOQ.out (fun q hq => ⟨(HOQ.out.2 q hq).1, .inl (HQA.out q hq)⟩) (by have := HQL.out; simp; omega) B8.out.size ?_; intro v9 w9 ho9 hg9))
          have HO9 := Lib.hid ho9
          have HB9 := Lib.hid (B8.out.grown hg9 B8.out.size (fun k hk => (HO8.out.lt k hk).1))
          have HS9 := Lib.hid (show joinL ((Q ++ [(⟨t0, ad, len, cap⟩ : TkV)] ++ Q').map TkV.t ++ drvP (s.data.toList.drop (i + m + R2))) = T by
            rw [List.map_append, HQQ.out, List.append_assoc]; exact HS.out)
          have HX9 := Lib.hid (show ∀ t ∈ (Q ++ [(⟨t0, ad, len, cap⟩ : TkV)] ++ Q').map TkV.t, t.text.length ≤ 16777216 ∧ JustT t from fun t ht => by
            rw [List.map_append, HQQ.out] at ht
            rcases List.mem_append.1 ht with h | h
            · exact HX2.out t h
            · have := HI2.out t h
              exact ⟨by omega, HRJ1.out t h⟩)
          have HN9 := Lib.hid (show ∀ q ∈ Q ++ [(⟨t0, ad, len, cap⟩ : TkV)] ++ Q', NewAt w.heap.size q from fun q hq => by
            rcases List.mem_append.1 hq with h | h
            · exact HN2.out q h
            · exact .inl (HQA.out q h))
          have hq9 := HQL.out
          clear ho9 hg9
          go_roundw
          case rel => exact ⟨i + m + R2, _, by first | rfl | trivial | go_num | (simp), HO9.out, HB9.out, by omega, by simp; omega, HS9, HX9, HN9⟩
          case measure => simp [intOf]; omega
    · have his : i = s.size := by omega
      have HJ2 : Hid (joinL (Q.map TkV.t) = T) := Lib.hid (by
        have := HT.out
        rw [List.drop_eq_nil_of_le (by rw [← Lib.size_eq]; omega), drv_nil, List.append_nil] at this
        exact this)
      obtain ⟨a7, c7, rfl, hto⟩ := HO.out.toldN w.heap.size HN0.out
      have HJ := Lib.hid (fun w1 (h : IsToksN w1 w.heap.size a7 Q.length c7 (Q.map TkV.t)) => joinAll_any w.heap.size a7 Q.length c7 (Q.map TkV.t) w1 h (by omega) (fun t ht => (HX.out t ht).1) (fun t ht => (HX.out t ht).2))
      have HTO := Lib.hid hto
      clear hto HNX HT
      go_wp2_with (fail)
      refine (HJ.out _ HTO.out).mono ?_
      rintro e w6 ⟨v6, Q6, rfl, ho6, hq6, hn6, b6⟩
      obtain ⟨a8, c8, rfl, ht8⟩ := ho6.toldN w.heap.size hn6
      rw [hq6, HJ2.out] at ht8
      have HT8 := Lib.hid ht8
      have HB6 := Lib.hid (HB.out.trans (b6.mono HB.out.size))
      clear ho6 hq6 b6 ht8 hn6
      go_wp2
      go_ret
      exact ⟨a8, _, c8, rfl, HT8.out, HB6.out⟩
end Go.Proofs.YtbcmfcddkegcoaaGreatDoor
