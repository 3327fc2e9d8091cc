/-
  What package tok's Next, Rest, Tok and Join answer.
-/
import Derived.Test.YtdcbjgmjmdgmmaaGreatDoorTkTo
import Derived.Test.YtdcbjgmjmdgmmaaGreatDoorTkJoined
import Derived.Test.YtdcbjgmjmdgmmaaGreatDoorQH
import Derived.Test.YtdcbjgmjmdgmmaaGreatDoorQI
import Derived.Test.YtdcbjgmjmdgmmaaGreatDoorQB
namespace Go.Proofs.YtdcbjgmjmdgmmaaGreatDoor
open Go.RowKit Go.Lib

/-- the row told, its attributes in new memory -/
theorem OwnToks.toldN {w : World} {base : Nat} {v : Value} {Q : List TkV} (h : OwnToks w base v Q) (B : Nat) (hn : ∀ q ∈ Q, NewAt B q) : ∃ a cap, v = .slice a Q.length cap ∧ IsToksN w B a Q.length cap (Q.map TkV.t) := by
  have hc := fun g hg => h.1.cells (g := g) hg
  rcases h.1.2 with ⟨rfl, h0⟩ | ⟨g, cap, cur, rfl, hb, hg, hn', hm, hs, htake⟩
  · refine ⟨none, 0, by rw [h0], by simp, by omega, by simp [maxLen], fun i hi => ?_⟩
    rw [List.length_map] at hi; omega
  · refine ⟨_, cap, rfl, by simp, hn', hm, fun i hi => ?_⟩
    have hi' : i < Q.length := by simpa using hi
    obtain ⟨e0, e1, e2, e3, e4⟩ := cellsT_at Q i hi'
    refine ⟨_, Q[i].ad, Q[i].len, Q[i].cap, rfl, ⟨?_, ?_, ?_, ?_, ?_⟩, ?_, ?_⟩
    all_goals simp only [List.getElem_map]
    · exact hc g rfl _ _ e0
    · exact hc g rfl _ _ e1
    · exact hc g rfl _ _ e2
    · exact hc g rfl _ _ e3
    · exact hc g rfl _ _ e4
    · exact (h.2 Q[i] (List.getElem_mem hi')).1
    · exact hn Q[i] (List.getElem_mem hi')
theorem IsToks.new {w : World} {a : Option Addr} {len cap : Nat} {L : List TokP} (h : IsToks w a len cap L) : IsToksN w 0 a len cap L :=
  ⟨h.1, h.2.1, h.2.2.1, fun i hi => by
    obtain ⟨x, ad, ln, cp, h1, h2, h3⟩ := h.2.2.2 i hi
    exact ⟨x, ad, ln, cp, h1, h2, h3, .inr fun k _ => Nat.zero_le k⟩⟩
theorem joinAll_any (B : Nat) (a : Option Addr) (len cap : Nat) (L : List TokP) (w : World) (hL : IsToksN w B a len cap L) (hlen : len ≤ 2097152) (htx : ∀ t ∈ L, t.text.length ≤ 16777216) (hj : ∀ t ∈ L, JustT t) :
    Calls Tryz.prog 20 #[.slice a len cap] w fun e w' => ∃ v Q, e = .returned v ∧ OwnToks w' w.heap.size v Q ∧ Q.map TkV.t = joinL L ∧ (∀ q ∈ Q, NewAt B q) ∧ Below w.heap.size w w' := by
  cases a with
  | some x => exact joinGen_any B x len cap L w hL hlen htx hj
  | none =>
    have hnil : L = [] := by
      cases L with
      | nil => rfl
      | cons t L =>
        obtain ⟨x, _, _, _, h, _⟩ := hL.2.2.2 0 (Nat.succ_pos _)
        cases h
    subst hnil
    refine (joinNone_any len cap w).mono ?_
    rintro e w' ⟨rfl, rfl⟩
    exact ⟨_, [], rfl, ownToks_nil _ _, rfl, (fun q h => by cases h), Below.refl _ _⟩
set_option maxRecDepth 100000 in
set_option maxHeartbeats 16000000 in
/-- P15.3 -/
theorem tokTok_any (s : ByteArray) (st : Int) (nm : ByteArray) (w : World) (hs : s.size ≤ 1048576) (hn : nm.size ≤ 1048576) (_hst : -9223372036854775808 ≤ st ∧ st ≤ 9223372036854775807) (h : LaidAt w) :
    Calls Tryz.prog 15 #[.string s, .int .i64 st, .string nm] w (TellS (tokL st nm.data.toList s.data.toList) w) := by
  have HW := Lib.hid h
  by_cases hin : 0 ≤ st ∧ st ≤ 4
  · obtain ⟨i0, hi0, hz0, hz1, hz2⟩ := info_parts info_tok
    have HR := fun w h => Lib.hid (tokRestG_any s 0 st nm w hs hn (by decide) h)
    simp only [restV_zero] at HR
    obtain ⟨T, hT⟩ : ∃ T, tokL st nm.data.toList s.data.toList = T := ⟨_, rfl⟩
    have hT0 : joinL ((restK st nm.data.toList s.data.toList).1 ++ toksL (s.data.toList.drop (restK st nm.data.toList s.data.toList).2)) = T := by
      rw [← hT]; unfold tokL; rw [if_pos hin]
    have hri := rest_in st nm.data.toList s.data.toList
    have hrj := just_rest st nm.data.toList s.data.toList
    rw [← Lib.size_eq] at hri
    have hr0 : st = 0 → restK st nm.data.toList s.data.toList = ([], 0) := fun e => by rw [e]; exact rest_data _ _
    obtain ⟨R, hR⟩ : ∃ R, restK st nm.data.toList s.data.toList = R := ⟨_, rfl⟩
    rw [hR] at HR hT0 hri hrj hr0
    rw [hT]
    obtain ⟨hri1, hri2⟩ := hri
    have HT0 := Lib.hid hT0
    have HTX := Lib.hid hri2
    have HRJ := Lib.hid hrj
    have HNX := fun (i : Nat) (h : i < s.size) w hl => Lib.hid (tokNextH_any s (i : Int) w hs (by omega) hl)
    have hways : st = 0 ∨ st = 1 ∨ st = 2 ∨ st = 3 ∨ st = 4 := by omega
    clear hT hT0 hR hri2 hin hrj h
    rcases hways with rfl | hways
    · have e0 := hr0 rfl
      subst e0
      clear hr0 HR HTX HRJ hri1
      go_enter Tryz.func15, Tryz.ntmps15
      go_wp2
      -- LOOP
      go_loopw [7, 8] (fun v7 v8 wr => ∃ (i : Nat) (Q : List TkV), v8 = .int .i64 (i : Int) ∧ OwnToks wr w.heap.size v7 Q ∧ Below w.heap.size w wr ∧ i ≤ s.size ∧ Q.length ≤ i + 2 ∧ Hid (joinL (Q.map TkV.t ++ toksL (s.data.toList.drop i)) = T) ∧ Hid (∀ t ∈ Q.map TkV.t, t.text.length ≤ 16777216 ∧ JustT t) ∧ Hid (∀ q ∈ Q, NewAt w.heap.size q)) (fun _ v _ => s.size - (intOf v).toNat)
      case atStart => exact ⟨0, [], rfl, ownToks_nil _ _, Below.refl _ _, Nat.zero_le _, by simp, Lib.hid (by rw [List.drop_zero]; exact HT0.out), Lib.hid (fun t h => by cases h), Lib.hid (fun q h => by cases h)⟩
      case round =>
        obtain ⟨i, Q, rfl, ho, hb, hi, hql, HT, HX, HN0⟩ := hrel
        have HO := Lib.hid ho
        have HB := Lib.hid hb
        clear ho hb HT0
        by_cases hlt : i < s.size
        · have hne : s.data.toList.drop i ≠ [] := fun e => by
            have := (drop_nil s i hi).1 e; omega
          have hst := step_tok _ hne _ _ HT.out
          have hin := nx_in (s.data.toList.drop i)
          have htx := nx_text (s.data.toList.drop i)
          have hjt := just_nx (s.data.toList.drop i)
          rw [List.length_drop, ← Lib.size_eq] at hin htx
          have hm1 := hin.2 hne
          have hm2 := hin.1
          have HN := fun w hl => HNX i hlt w hl
          simp only [nxV_in s.data.toList i (by rw [← Lib.size_eq]; exact hi)] at HN
          rw [List.drop_drop] at hst
          obtain ⟨t0, ht0⟩ : ∃ t, (nx (s.data.toList.drop i)).1 = t := ⟨_, rfl⟩
          obtain ⟨m, hm⟩ : ∃ m, (nx (s.data.toList.drop i)).2.1 = m := ⟨_, rfl⟩
          obtain ⟨ok0, hok⟩ : ∃ m, (nx (s.data.toList.drop i)).2.2 = m := ⟨_, rfl⟩
          simp only [ht0, hm, hok] at HN hst hm1 hm2 htx hjt
          have HST := Lib.hid hst
          have HTT := Lib.hid htx
          have HJT := Lib.hid hjt
          have hbs := HB.out.size
          clear ht0 hm hok hst htx hin hne HNX HT hjt
          go_wp2_with (fail)
          refine (HN _ (HW.out.below HB.out)).out.mono ?_
          rintro e w5 ⟨t, ad, len, cap, n, ok, rfl, hr, hv, b5, hf⟩
          simp only [Prod.mk.injEq] at hv
          obtain ⟨rfl, rfl, rfl⟩ := hv
          have HO5 := Lib.hid (HO.out.below b5)
          have HA5 := Lib.hid (attOk_new (q := ⟨t0, ad, len, cap⟩) HO.out hr hf)
          have HNA := Lib.hid (show NewAt w.heap.size ⟨t0, ad, len, cap⟩ from hf.elim .inl (fun h => .inr fun k hk => Nat.le_trans HB.out.size (h k hk)))
          have B5 := Lib.hid (HB.out.trans (b5.mono HB.out.size))
          have hbs5 := B5.out.size
          clear b5 hr hf HN
          unfold tokA
          cases ok0
          · have HS := Lib.hid (show joinL (Q.map TkV.t ++ toksL (s.data.toList.drop (i + m))) = T from HST.out)
            go_wp2
            go_roundw
            case rel => exact ⟨i + m, Q, by first | rfl | trivial | go_num, HO5.out.alloc _, B5.out.alloc hbs5 _, by omega, by omega, HS, HX, HN0⟩
            case measure => simp [intOf]; omega
          · have HS := Lib.hid (show joinL ((Q ++ [(⟨t0, ad, len, cap⟩ : TkV)]).map TkV.t ++ toksL (s.data.toList.drop (i + m))) = T by
              have := HST.out
              rw [if_pos rfl] at this
              rw [List.map_append]; exact this)
            have HX2 : Hid (∀ t ∈ (Q ++ [(⟨t0, ad, len, cap⟩ : TkV)]).map TkV.t, t.text.length ≤ 16777216 ∧ JustT t) := Lib.hid (by
              intro t ht
              rw [List.map_append, List.mem_append] at ht
              rcases ht with h | h
              · exact HX.out t h
              · simp only [List.map_cons, List.map_nil, List.mem_cons, List.not_mem_nil, or_false] at h
                rw [h]
                have := HTT.out
                exact ⟨by omega, HJT.out⟩)
            have HN2 : Hid (∀ q ∈ Q ++ [(⟨t0, ad, len, cap⟩ : TkV)], NewAt w.heap.size q) := Lib.hid (by
              intro q hq
              rcases List.mem_append.1 hq with h | h
              · exact HN0.out q h
              · rw [List.mem_singleton.1 h]; exact HNA.out)
            have HO6 := Lib.hid ((HO5.out.alloc (.cells #[.int .i64 t0.kind, .string ⟨t0.name.toArray⟩, .string ⟨t0.text.toArray⟩, .slice ad len cap, .bool t0.self] 30)).alloc (.cells #[.int .i64 t0.kind, .string ⟨t0.name.toArray⟩, .string ⟨t0.text.toArray⟩, .slice ad len cap, .bool t0.self] 30))
            go_wp2_with (at_builtin; refine wpList_append_own_at _ rfl _ _ 24 rfl w.heap.size 30 i0 _ 5 72 Tryz.underlying24 hi0 hz0 hz1 hz2 rfl (by decide) _ Q.length (cellsT Q) rfl (HO6.out).1 ⟨w5.heap.size + 1, 0, none⟩ 1 1 (cellsT [⟨t0, ad, len, cap⟩]) rfl rfl ?c1 ?c2 ?c3 ?c4 ?c5 ?_)
            case c1 => first | exact new_five_at _ ⟨t0, ad, len, cap⟩ _ _ (by simp) | (intro j u hj; rw [cellsT_one] at hj; exact hj)
            case c2 => exact five_one _
            case c3 => first | (simp [maxLen]; done) | (simp [maxLen]; omega) | omega
            case c4 => first | decide | omega
            case c5 => first | omega | (simp; omega)
            intro v6 w6 hown1 hgr1 _ hat1
            have HP := Lib.hid (toks_push HO6.out (HA5.out.below (((Below.refl _ w5).alloc (Nat.le_refl _) _).alloc (by simp) _)) ((B5.out.alloc hbs5 _).alloc (by simp; omega) _) (Nat.le_refl _) hown1 hgr1 (by simpa using hat1))
            clear hown1 hgr1 hat1
            go_wp2
            go_roundw
            case rel => exact ⟨i + m, Q ++ [⟨t0, ad, len, cap⟩], by first | rfl | trivial | go_num, HP.out.1, HP.out.2, by omega, by simp; omega, HS, HX2, HN2⟩
            case measure => simp [intOf]; omega
        · have his : i = s.size := by omega
          have HJ2 : Hid (joinL (Q.map TkV.t) = T) := Lib.hid (by
            have := HT.out
            rw [List.drop_eq_nil_of_le (by rw [← Lib.size_eq]; omega), toks_nil, List.append_nil] at this
            exact this)
          obtain ⟨a7, c7, rfl, hto⟩ := HO.out.toldN w.heap.size HN0.out
          have HJ := Lib.hid (fun w1 (h : IsToksN w1 w.heap.size a7 Q.length c7 (Q.map TkV.t)) => joinAll_any w.heap.size a7 Q.length c7 (Q.map TkV.t) w1 h (by omega) (fun t ht => (HX.out t ht).1) (fun t ht => (HX.out t ht).2))
          have HTO := Lib.hid hto
          clear hto HNX HT
          go_wp2_with (fail)
          refine (HJ.out _ HTO.out).mono ?_
          rintro e w6 ⟨v6, Q6, rfl, ho6, hq6, hn6, b6⟩
          obtain ⟨a8, c8, rfl, ht8⟩ := ho6.toldN w.heap.size hn6
          rw [hq6, HJ2.out] at ht8
          have HT8 := Lib.hid ht8
          have HB6 := Lib.hid (HB.out.trans (b6.mono HB.out.size))
          clear ho6 hq6 b6 ht8 hn6
          go_wp2
          go_ret
          exact ⟨a8, _, c8, rfl, HT8.out, HB6.out⟩
      -- END
    · clear hr0
      rcases hways with rfl | rfl | rfl | rfl
      all_goals
        go_enter Tryz.func15, Tryz.ntmps15
        go_wp2_with (fail)
        refine (HR _ HW.out).out.mono ?_
        rintro e w1 ⟨v1, Q1, n1, rfl, ho1, hq1, hl1, hnw, b1⟩
        obtain ⟨R1, R2⟩ := R
        simp only [Prod.mk.injEq] at hq1
        obtain ⟨hq1, rfl⟩ := hq1
        simp only at HT0 HTX hri1 HRJ
        have HO1 := Lib.hid ho1
        have HB1 := Lib.hid b1
        have HQ1 := Lib.hid hq1
        have HNW := Lib.hid hnw
        have HT1 : Hid (joinL (Q1.map TkV.t ++ toksL (s.data.toList.drop n1)) = T) := Lib.hid (by rw [HQ1.out]; exact HT0.out)
        have HX1 : Hid (∀ t ∈ Q1.map TkV.t, t.text.length ≤ 16777216 ∧ JustT t) := Lib.hid (by
          rw [HQ1.out]; intro t ht; have := HTX.out t ht; exact ⟨by omega, HRJ.out t ht⟩)
        clear ho1 b1 hq1 HT0 HTX HQ1 HRJ hnw
        go_wp2
        go_loopw [7, 8] (fun v7 v8 wr => ∃ (i : Nat) (Q : List TkV), v8 = .int .i64 (i : Int) ∧ OwnToks wr w.heap.size v7 Q ∧ Below w.heap.size w wr ∧ i ≤ s.size ∧ Q.length ≤ i + 2 ∧ Hid (joinL (Q.map TkV.t ++ toksL (s.data.toList.drop i)) = T) ∧ Hid (∀ t ∈ Q.map TkV.t, t.text.length ≤ 16777216 ∧ JustT t) ∧ Hid (∀ q ∈ Q, NewAt w.heap.size q)) (fun _ v _ => s.size - (intOf v).toNat)
        case atStart => exact ⟨n1, Q1, by first | rfl | trivial, HO1.out, HB1.out, hri1, by omega, HT1, HX1, HNW⟩
        case round =>
          obtain ⟨i, Q, rfl, ho, hb, hi, hql, HT, HX, HN0⟩ := hrel
          have HO := Lib.hid ho
          have HB := Lib.hid hb
          clear ho hb HO1 HB1 HT1 HX1 HNW hl1 hri1
          by_cases hlt : i < s.size
          · have hne : s.data.toList.drop i ≠ [] := fun e => by
              have := (drop_nil s i hi).1 e; omega
            have hst := step_tok _ hne _ _ HT.out
            have hin := nx_in (s.data.toList.drop i)
            have htx := nx_text (s.data.toList.drop i)
            have hjt := just_nx (s.data.toList.drop i)
            rw [List.length_drop, ← Lib.size_eq] at hin htx
            have hm1 := hin.2 hne
            have hm2 := hin.1
            have HN := fun w hl => HNX i hlt w hl
            simp only [nxV_in s.data.toList i (by rw [← Lib.size_eq]; exact hi)] at HN
            rw [List.drop_drop] at hst
            obtain ⟨t0, ht0⟩ : ∃ t, (nx (s.data.toList.drop i)).1 = t := ⟨_, rfl⟩
            obtain ⟨m, hm⟩ : ∃ m, (nx (s.data.toList.drop i)).2.1 = m := ⟨_, rfl⟩
            obtain ⟨ok0, hok⟩ : ∃ m, (nx (s.data.toList.drop i)).2.2 = m := ⟨_, rfl⟩
            simp only [ht0, hm, hok] at HN hst hm1 hm2 htx hjt
            have HST := Lib.hid hst
            have HTT := Lib.hid htx
            have HJT := Lib.hid hjt
            have hbs := HB.out.size
            clear ht0 hm hok hst htx hin hne HNX HT hjt
            go_wp2_with (fail)
            refine (HN _ (HW.out.below HB.out)).out.mono ?_
            rintro e w5 ⟨t, ad, len, cap, n, ok, rfl, hr, hv, b5, hf⟩
            simp only [Prod.mk.injEq] at hv
            obtain ⟨rfl, rfl, rfl⟩ := hv
            have HO5 := Lib.hid (HO.out.below b5)
            have HA5 := Lib.hid (attOk_new (q := ⟨t0, ad, len, cap⟩) HO.out hr hf)
            have HNA := Lib.hid (show NewAt w.heap.size ⟨t0, ad, len, cap⟩ from hf.elim .inl (fun h => .inr fun k hk => Nat.le_trans HB.out.size (h k hk)))
            have B5 := Lib.hid (HB.out.trans (b5.mono HB.out.size))
            have hbs5 := B5.out.size
            clear b5 hr hf HN
            unfold tokA
            cases ok0
            · have HS := Lib.hid (show joinL (Q.map TkV.t ++ toksL (s.data.toList.drop (i + m))) = T from HST.out)
              go_wp2
              go_roundw
              case rel => exact ⟨i + m, Q, by first | rfl | trivial | go_num, HO5.out.alloc _, B5.out.alloc hbs5 _, by omega, by omega, HS, HX, HN0⟩
              case measure => simp [intOf]; omega
            · have HS := Lib.hid (show joinL ((Q ++ [(⟨t0, ad, len, cap⟩ : TkV)]).map TkV.t ++ toksL (s.data.toList.drop (i + m))) = T by
                have := HST.out
                rw [if_pos rfl] at this
                rw [List.map_append]; exact this)
              have HX2 : Hid (∀ t ∈ (Q ++ [(⟨t0, ad, len, cap⟩ : TkV)]).map TkV.t, t.text.length ≤ 16777216 ∧ JustT t) := Lib.hid (by
                intro t ht
                rw [List.map_append, List.mem_append] at ht
                rcases ht with h | h
                · exact HX.out t h
                · simp only [List.map_cons, List.map_nil, List.mem_cons, List.not_mem_nil, or_false] at h
                  rw [h]
                  have := HTT.out
                  exact ⟨by omega, HJT.out⟩)
              have HN2 : Hid (∀ q ∈ Q ++ [(⟨t0, ad, len, cap⟩ : TkV)], NewAt w.heap.size q) := Lib.hid (by
                intro q hq
                rcases List.mem_append.1 hq with h | h
                · exact HN0.out q h
                · rw [List.mem_singleton.1 h]; exact HNA.out)
              have HO6 := Lib.hid ((HO5.out.alloc (.cells #[.int .i64 t0.kind, .string ⟨t0.name.toArray⟩, .string ⟨t0.text.toArray⟩, .slice ad len cap, .bool t0.self] 30)).alloc (.cells #[.int .i64 t0.kind, .string ⟨t0.name.toArray⟩, .string ⟨t0.text.toArray⟩, .slice ad len cap, .bool t0.self] 30))
              go_wp2_with (at_builtin; refine wpList_append_own_at _ rfl _ _ 24 rfl w.heap.size 30 i0 _ 5 72 Tryz.underlying24 hi0 hz0 hz1 hz2 rfl (by decide) _ Q.length (cellsT Q) rfl (HO6.out).1 ⟨w5.heap.size + 1, 0, none⟩ 1 1 (cellsT [⟨t0, ad, len, cap⟩]) rfl rfl ?c1 ?c2 ?c3 ?c4 ?c5 ?_)
              case c1 => first | exact new_five_at _ ⟨t0, ad, len, cap⟩ _ _ (by simp) | (intro j u hj; rw [cellsT_one] at hj; exact hj)
              case c2 => exact five_one _
              case c3 => first | (simp [maxLen]; done) | (simp [maxLen]; omega) | omega
              case c4 => first | decide | omega
              case c5 => first | omega | (simp; omega)
              intro v6 w6 hown1 hgr1 _ hat1
              have HP := Lib.hid (toks_push HO6.out (HA5.out.below (((Below.refl _ w5).alloc (Nat.le_refl _) _).alloc (by simp) _)) ((B5.out.alloc hbs5 _).alloc (by simp; omega) _) (Nat.le_refl _) hown1 hgr1 (by simpa using hat1))
              clear hown1 hgr1 hat1
              go_wp2
              go_roundw
              case rel => exact ⟨i + m, Q ++ [⟨t0, ad, len, cap⟩], by first | rfl | trivial | go_num, HP.out.1, HP.out.2, by omega, by simp; omega, HS, HX2, HN2⟩
              case measure => simp [intOf]; omega
          · have his : i = s.size := by omega
            have HJ2 : Hid (joinL (Q.map TkV.t) = T) := Lib.hid (by
              have := HT.out
              rw [List.drop_eq_nil_of_le (by rw [← Lib.size_eq]; omega), toks_nil, List.append_nil] at this
              exact this)
            obtain ⟨a7, c7, rfl, hto⟩ := HO.out.toldN w.heap.size HN0.out
            have HJ := Lib.hid (fun w1 (h : IsToksN w1 w.heap.size a7 Q.length c7 (Q.map TkV.t)) => joinAll_any w.heap.size a7 Q.length c7 (Q.map TkV.t) w1 h (by omega) (fun t ht => (HX.out t ht).1) (fun t ht => (HX.out t ht).2))
            have HTO := Lib.hid hto
            clear hto HNX HT
            go_wp2_with (fail)
            refine (HJ.out _ HTO.out).mono ?_
            rintro e w6 ⟨v6, Q6, rfl, ho6, hq6, hn6, b6⟩
            obtain ⟨a8, c8, rfl, ht8⟩ := ho6.toldN w.heap.size hn6
            rw [hq6, HJ2.out] at ht8
            have HT8 := Lib.hid ht8
            have HB6 := Lib.hid (HB.out.trans (b6.mono HB.out.size))
            clear ho6 hq6 b6 ht8 hn6
            go_wp2
            go_ret
            exact ⟨a8, _, c8, rfl, HT8.out, HB6.out⟩
  · have hT : tokL st nm.data.toList s.data.toList = [] := by unfold tokL; rw [if_neg hin]
    rw [hT]
    have e0 : (st == 0) = false := by rw [beq_eq_false_iff_ne]; omega
    have e1 : (st == 1) = false := by rw [beq_eq_false_iff_ne]; omega
    have e2 : (st == 2) = false := by rw [beq_eq_false_iff_ne]; omega
    have e3 : (st == 3) = false := by rw [beq_eq_false_iff_ne]; omega
    have e4 : (st == 4) = false := by rw [beq_eq_false_iff_ne]; omega
    have HJ := fun w => Lib.hid (joinNone_any 0 0 w)
    clear hT hin h
    go_enter Tryz.func15, Tryz.ntmps15
    go_wp2_with (fail)
    refine (HJ _).out.mono ?_
    rintro e w1 ⟨rfl, rfl⟩
    go_wp2
    go_ret
    exact ⟨none, 0, 0, rfl, IsToksN.nothing _ _ _ _ (Nat.zero_le _), Below.refl _ _⟩
end Go.Proofs.YtdcbjgmjmdgmmaaGreatDoor
