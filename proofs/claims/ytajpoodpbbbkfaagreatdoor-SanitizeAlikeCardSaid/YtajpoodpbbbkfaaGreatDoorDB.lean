/-
  Texts laid together: DrvDo, DrvCode.
-/
import Derived.Test.YtajpoodpbbbkfaaGreatDoorDA
import Derived.Test.YtajpoodpbbbkfaaGreatDoorTB
set_option maxHeartbeats 8000000
set_option maxRecDepth 100000
namespace Go.Proofs.YtajpoodpbbbkfaaGreatDoor
open Go.RowKit Go.Lib
theorem Kx (l:ab) (hl:l≠[]) (h:(nx l).2.2=false):eD l=eD (l.drop (nx l).2.1):=by
 rw [oQ l hl]
 unfold gX
 rw [h,if_neg Bool.false_ne_true];rfl
theorem wq (l:ab) (hl:l≠[]) (h:(nx l).2.2=true) (hs:¬kQ (nx l).1):eD l=(nx l).1::eD (l.drop (nx l).2.1):=by
 rw [oQ l hl]
 unfold gX
 rw [if_pos h,if_neg hs];rfl
theorem Bd (l:ab) (hl:l≠[]) (h:(nx l).2.2=true) (hs:kQ (nx l).1):eD l=(nx l).1::((c9 (dx (nx l).1.name) (nx l).1.name (l.drop (nx l).2.1)).1++eD ((l.drop (nx l).2.1).drop (c9 (dx (nx l).1.name) (nx l).1.name (l.drop (nx l).2.1)).2)):=by
 rw [oQ l hl]
 unfold gX
 rw [if_pos h,if_pos hs,List.drop_drop];rfl
theorem ws (l:ab) (h:(nx l).2.2=true) (hs:kQ (nx l).1):3≤(nx l).2.1∧(nx l).1.name.length≤9:=by
 have hn:(nx l).1.name.length≤9:=by
  obtain ⟨p,hp,e,-⟩:=xA _ hs.2
  rw [←e]
  exact (show ∀p∈eg,p.1.length≤9 by decide) p hp
 refine ⟨?_,hn⟩
 have h1:=hs.1
 rcases fc l with ⟨hb,-,e⟩|⟨hb,t,n,hr,e⟩|⟨-,hb,e⟩|⟨-,-,hb,e⟩|⟨-,-,-,hb,e⟩|⟨-,-,-,-,-,-,hb,e⟩|⟨-,-,-,-,-,hb,e⟩
 all_goals rw [e] at h h1⊢
 all_goals simp only at h h1⊢
 ·cases h
 ·obtain ⟨e1,-⟩:=eB l t n hr
  have:=(BH l hb).2
  omega
 ·exact absurd h1 (show ¬(3:Int)=1 by decide)
 ·exact absurd h1 (show ¬(4:Int)=1 by decide)
 ·cases h
 ·cases h
 ·exact absurd h1 (show ¬(0:Int)=1 by decide)
theorem wt (nm l:ab) (hs:dx nm≠0):∀t∈(c9 (dx nm) nm l).1,t.attrs=[]:=by
 obtain ⟨x,⟨e,-⟩|e⟩:=sQ nm l hs
 all_goals rw [e];intro t ht
 ·unfold aQ at ht
  split at ht
  ·cases ht
  ·rw [List.mem_singleton.1 ht];rfl
 ·rcases List.mem_append.1 ht with h|h
  ·unfold aQ at h
   split at h
   ·cases h
   ·rw [List.mem_singleton.1 h];rfl
  ·rw [List.mem_singleton.1 h]
theorem Be (st:Int) (nm s:ab) (k:Nat) (hk:k≤s.length):ge st nm s (k:Int)=((c9 st nm (s.drop k)).1,k+(c9 st nm (s.drop k)).2):=by
 unfold ge;rw [gT s k hk]
theorem tJ (s : ByteArray) (w : World) (hs : s.size ≤ 1048576) :
    Calls Tryz.prog 38 #[.string s] w fun e w' => ∃ v Q, e = .returned v ∧ aH w' w.heap.size v Q ∧ Q.map aY.t = kZ s.data.toList ∧ Below w.heap.size w w' := by
  obtain ⟨i0, hi0, hz0, hz1, hz2⟩ := info_parts gL
  obtain ⟨T, hT⟩ : ∃ T, kZ s.data.toList = T := ⟨_, rfl⟩
  rw [hT]
  have HT0 : Hid (bX (eD s.data.toList) = T) := Lib.hid hT
  have HNX := fun (i : Nat) (h : i < s.size) w => Lib.hid (uv s (i : Int) w hs (by omega))
  clear hT
  go_enter Tryz.func38, Tryz.ntmps38
  go_wp2
  go_loopw [3, 4] (fun v3 v4 wr => ∃ (i : Nat) (Q : List aY), v4 = .int .i64 (i : Int) ∧ aH wr w.heap.size v3 Q ∧ Below w.heap.size w wr ∧ i ≤ s.size ∧ Q.length ≤ i ∧ Hid (bX (Q.map aY.t ++ eD (s.data.toList.drop i)) = T) ∧ Hid (∀ t ∈ Q.map aY.t, t.text.length ≤ 16777216)) (fun _ v _ => s.size - (ae v).toNat)
  case atStart => exact ⟨0, [], rfl, bK _ _, Below.refl _ _, Nat.zero_le _, Nat.zero_le _, Lib.hid (by rw [List.drop_zero]; exact HT0.out), Lib.hid (fun t h => by cases h)⟩
  case round =>
    obtain ⟨i, Q, rfl, ho, hb, hi, hql, HT, HX⟩ := hrel
    have HO := Lib.hid ho
    have HB := Lib.hid hb
    have hbs := hb.size
    clear ho hb HT0
    by_cases hlt : i < s.size
    · have hne : s.data.toList.drop i ≠ [] := fun e => by
        have := (drop_nil s i hi).1 e; omega
      have hin := IN (s.data.toList.drop i)
      have htx := xo (s.data.toList.drop i)
      have hno := Kx (s.data.toList.drop i) hne
      have hpl := wq (s.data.toList.drop i) hne
      have hsp := Bd (s.data.toList.drop i) hne
      have hlo := ws (s.data.toList.drop i)
      rw [List.length_drop, ← Lib.size_eq] at hin htx
      have hm1 := hin.2 hne
      have hm2 := hin.1
      have HN := fun w => HNX i hlt w
      simp only [IO s.data.toList i (by rw [← Lib.size_eq]; exact hi)] at HN
      rw [List.drop_drop] at hno hpl hsp
      obtain ⟨t0, ht0⟩ : ∃ t, (nx (s.data.toList.drop i)).1 = t := ⟨_, rfl⟩
      obtain ⟨m, hm⟩ : ∃ m, (nx (s.data.toList.drop i)).2.1 = m := ⟨_, rfl⟩
      obtain ⟨ok0, hok⟩ : ∃ m, (nx (s.data.toList.drop i)).2.2 = m := ⟨_, rfl⟩
      simp only [ht0, hm, hok] at HN hno hpl hsp hlo hm1 hm2 htx
      have HTT := Lib.hid htx
      clear ht0 hm hok htx hin hne HNX
      go_wp2_with (fail)
      refine (HN _).out.mono ?_
      rintro e w5 ⟨t, ad, len, cap, n, ok, rfl, hr, hv, b5, hf⟩
      simp only [Prod.mk.injEq] at hv
      obtain ⟨rfl, rfl, rfl⟩ := hv
      have HO5 := Lib.hid (HO.out.below b5)
      have HA5 := Lib.hid (iA (q := ⟨t0, ad, len, cap⟩) HO.out hr hf)
      have B5 := Lib.hid (HB.out.trans (b5.mono HB.out.size))
      have hbs5 := B5.out.size
      have HW5 := Lib.hid (show wr.heap.size ≤ w5.heap.size from b5.size)
      clear b5 hr hf HN
      unfold eu
      cases ok0
      · have HS := Lib.hid (show bX (Q.map aY.t ++ eD (s.data.toList.drop (i + m))) = T by rw [← hno rfl]; exact HT.out)
        clear hno hpl hsp hlo
        go_wp2
        go_roundw
        case rel => exact ⟨i + m, Q, by first | rfl | trivial | go_num, HO5.out.alloc _, B5.out.alloc hbs5 _, by omega, by omega, HS, HX⟩
        case measure => simp [ae]; omega
      · have HX2 : Hid (∀ t ∈ (Q ++ [(⟨t0, ad, len, cap⟩ : aY)]).map aY.t, t.text.length ≤ 16777216) := Lib.hid (by
          intro t ht
          rw [List.map_append, List.mem_append] at ht
          rcases ht with h | h
          · exact HX.out t h
          · simp only [List.map_cons, List.map_nil, List.mem_cons, List.not_mem_nil, or_false] at h
            rw [h]
            have := HTT.out
            omega)
        have HO6 := Lib.hid ((HO5.out.alloc (.cells #[.int .i64 t0.kind, .string ⟨t0.name.toArray⟩, .string ⟨t0.text.toArray⟩, .slice ad len cap, .bool t0.self] 33)).alloc (.cells #[.int .i64 t0.kind, .string ⟨t0.name.toArray⟩, .string ⟨t0.text.toArray⟩, .slice ad len cap, .bool t0.self] 33))
        have HNO := Lib.hid hno
        have HPL := Lib.hid hpl
        have HSP := Lib.hid hsp
        have HLO := Lib.hid hlo
        clear hno hpl hsp hlo
        go_wp2_with (at_builtin; refine wpList_append_own_at _ rfl _ _ 29 rfl w.heap.size 33 i0 _ 5 72 Tryz.underlying29 hi0 hz0 hz1 hz2 rfl (by decide) _ Q.length (ag Q) rfl (HO6.out).1 ⟨w5.heap.size + 1, 0, none⟩ 1 1 (ag [⟨t0, ad, len, cap⟩]) rfl rfl ?c1 ?c2 ?c3 ?c4 ?c5 ?_)
        case c1 => first | exact bW _ ⟨t0, ad, len, cap⟩ _ _ (by simp) | (intro j u hj; rw [bt] at hj; exact hj)
        case c2 => exact dl _
        case c3 => first | (simp [maxLen]; done) | (simp [maxLen]; omega) | omega
        case c4 => first | decide | omega
        case c5 => first | omega | (simp; omega)
        intro v6 w6 hown1 hgr1 _ hat1
        have HP := Lib.hid (dc HO6.out (HA5.out.below (((Below.refl _ w5).alloc (Nat.le_refl _) _).alloc (by simp) _)) ((B5.out.alloc hbs5 _).alloc (by simp; omega) _) (Nat.le_refl _) hown1 hgr1 (by simpa using hat1))
        have HBX := Lib.hid (aN (w := w6) (g := w5.heap.size) (t := t0) (ad := ad) (len := len) (cap := cap) ((hgr1.block w5.heap.size (by simp; try omega) (fun e => by have := (HO.out.lt _ e.symm).2; have := HW5.out; omega)).trans ((Below.heap_alloc _ _ _ (by simp)).trans (heap_alloc_new w5 _))))
        have hs6 : w.heap.size ≤ w6.heap.size := HP.out.2.size
        clear hown1 hgr1 hat1
        obtain ⟨x0, x1, -, -, -⟩ := HBX.out
        obtain ⟨nm, hnm⟩ : ∃ nm : ByteArray, (⟨t0.name.toArray⟩ : ByteArray) = nm := ⟨_, rfl⟩
        have hnm2 : nm.data.toList = t0.name := by rw [← hnm, List.toList_toArray]
        rw [hnm] at x1
        obtain ⟨K, hK⟩ : ∃ K, t0.kind = K := ⟨_, rfl⟩
        rw [hK] at x0
        by_cases hk1 : K = 1
        · have HST := fun w => Lib.hid (sU nm w)
          rw [hnm2] at HST
          obtain ⟨st, hst⟩ : ∃ st, dx t0.name = st := ⟨_, rfl⟩
          rw [hst] at HST
          have hr := zU t0.name
          rw [hst] at hr
          by_cases h0 : st = 0
          · have hns : ¬ kQ t0 := fun e => e.2 (hst.trans h0)
            have HS := Lib.hid (show bX ((Q ++ [(⟨t0, ad, len, cap⟩ : aY)]).map aY.t ++ eD (s.data.toList.drop (i + m))) = T by
              have := HT.out
              rw [HPL.out (by first | rfl | trivial) hns] at this
              rw [List.map_append, List.append_assoc]; exact this)
            subst h0
            subst hk1
            clear hst hr hns hnm hnm2 hK HNO HPL HSP HLO
            go_wp2_with (fail)
            refine (HST _).out.mono ?_
            rintro e w7 ⟨rfl, hw7⟩
            obtain rfl := hw7.symm
            go_wp2
            go_roundw
            case rel => exact ⟨i + m, Q ++ [⟨t0, ad, len, cap⟩], by first | rfl | trivial | go_num, HP.out.1, HP.out.2, by omega, by simp; omega, HS, HX2⟩
            case measure => simp [ae]; omega
          · have hsp : kQ t0 := ⟨hK.trans hk1, fun e => h0 (hst.symm.trans e)⟩
            have HL := Lib.hid (HLO.out (by first | rfl | trivial) hsp)
            have hm3 := HL.out.1
            have HS1 := HSP.out (by first | rfl | trivial) hsp
            rw [hst] at HS1
            have him : i + m ≤ s.size := by omega
            have HRV := Be st t0.name s.data.toList (i + m) (by rw [← Lib.size_eq]; exact him)
            have HRS := wt t0.name (s.data.toList.drop (i + m)) hsp.2
            have HRI := rC st t0.name (s.data.toList.drop (i + m))
            rw [hst] at HRS
            have HRR := fun w => ux s ((i + m : Nat) : Int) st nm w hs (by rw [Lib.size_eq, hnm2]; have := HL.out.2; omega) (by omega)
            simp only [hnm2, HRV] at HRR
            obtain ⟨R, hR⟩ : ∃ R, c9 st t0.name (s.data.toList.drop (i + m)) = R := ⟨_, rfl⟩
            rw [hR, List.drop_drop] at HS1
            rw [hR] at HRS HRI
            simp only [hR] at HRR
            rw [List.length_drop, ← Lib.size_eq] at HRI
            obtain ⟨R1, R2⟩ := R
            simp only at HS1 HRS HRI HRR
            obtain ⟨HRI1, HRI2⟩ := HRI
            have HI2 := Lib.hid HRI2
            have HS := Lib.hid (show bX ((Q ++ [(⟨t0, ad, len, cap⟩ : aY)]).map aY.t ++ (R1 ++ eD (s.data.toList.drop (i + m + R2)))) = T by
              have := HT.out
              rw [HS1] at this
              rw [List.map_append, List.append_assoc]; exact this)
            have HRS' := Lib.hid HRS
            subst hk1
            have hst0 : (st == 0) = false := beq_eq_false_iff_ne.2 h0
            clear hst hnm hnm2 hK HNO HPL HSP HLO hsp HRV HS1 HRS HRI2 hR h0
            go_wp2_with (fail)
            refine (HST _).out.mono ?_
            rintro e w7 ⟨rfl, hw7⟩
            obtain rfl := hw7.symm
            have hd : w6.drew.cell? ⟨w5.heap.size, 1, none⟩ = some (.string nm) ∧ Below w6.heap.size w6 w6.drew := ⟨x1, (Below.refl _ _).drew⟩
            have cS : Hid (∀ u : World, (u.cell? ⟨w5.heap.size, 1, none⟩ = some (.string nm) ∧ Below w6.heap.size w6 u) → Calls Tryz.prog 80 #[.string nm] u fun e v => e = .returned (.int .i64 st) ∧ (v.cell? ⟨w5.heap.size, 1, none⟩ = some (.string nm) ∧ Below w6.heap.size w6 v)) := Lib.hid fun u h => by
              refine (HST u).out.mono ?_
              rintro e v ⟨rfl, rfl⟩
              exact ⟨rfl, h⟩
            have hlt5 : w5.heap.size < w6.heap.size := by
              have := block_lt_of_cell x1
              exact this
            have HLT := Lib.hid hlt5
            have cR : Hid (∀ u : World, (u.cell? ⟨w5.heap.size, 1, none⟩ = some (.string nm) ∧ Below w6.heap.size w6 u) → Calls Tryz.prog 81 #[.string s, .int .i64 ((i : Int) + (m : Int)), .int .i64 st, .string nm] u fun e v => ∃ v' Q', e = .returned (.tuple #[v', .int .i64 ((i : Int) + (m : Int) + (R2 : Int))]) ∧ aH v u.heap.size v' Q' ∧ Q'.map aY.t = R1 ∧ Q'.length ≤ 2 ∧ (v.cell? ⟨w5.heap.size, 1, none⟩ = some (.string nm) ∧ Below w6.heap.size w6 v)) := Lib.hid fun u h => by
              have := HRR u
              rw [Int.natCast_add] at this
              refine this.mono ?_
              rintro e v ⟨v', Q', n', rfl, h1, h2, h3, h4⟩
              simp only [Prod.mk.injEq] at h2
              obtain ⟨h2, rfl⟩ := h2
              have hsu := h.2.size
              exact ⟨v', Q', by simp only [Int.natCast_add], h1, h2, h3, (h4.cell (p := ⟨w5.heap.size, 1, none⟩) (by have := HLT.out; show w5.heap.size < u.heap.size; omega)).trans h.1, h.2.trans (h4.mono hsu)⟩
            have HPB := Lib.hid (fun (u : World) (h : Below w6.heap.size w6 u) => (⟨HP.out.1.below h, HP.out.2.trans (h.mono hs6)⟩ : aH u w.heap.size v6 (Q ++ [(⟨t0, ad, len, cap⟩ : aY)]) ∧ Below w.heap.size w u))
            clear HRR hlt5 HST
            go_wp2
            go_region_held3 (fun u : World => u.cell? ⟨w5.heap.size, 1, none⟩ = some (.string nm) ∧ Below w6.heap.size w6 u)
              (first | exact hd | assumption)
              (first
                | (go_at_call 80; (with_reducible refine (cS.out _ ‹_›).mono ?_); rintro e w' ⟨rfl, hb⟩)
                | (go_at_call 81; (with_reducible refine (cR.out _ ‹_›).mono ?_); rintro e w' ⟨v', Q', rfl, hoq, hqq, hql2, hb⟩))
            all_goals
              obtain ⟨ho9, hb9⟩ := HPB.out _ hb.2
              have HO9 := Lib.hid ho9
              have HB9 := Lib.hid hb9
              have HOQ := Lib.hid hoq
              have HQA := Lib.hid (show ∀ q ∈ Q', q.t.attrs = [] from fun q hq => HRS'.out q.t (by rw [← hqq]; exact List.mem_map.2 ⟨q, hq, rfl⟩))
              have HS9 := Lib.hid (show bX ((Q ++ [(⟨t0, ad, len, cap⟩ : aY)] ++ Q').map aY.t ++ eD (s.data.toList.drop (i + m + R2))) = T by
                rw [List.map_append, hqq, List.append_assoc]; exact HS.out)
              have HX9 := Lib.hid (show ∀ t ∈ (Q ++ [(⟨t0, ad, len, cap⟩ : aY)] ++ Q').map aY.t, t.text.length ≤ 16777216 from fun t ht => by
                rw [List.map_append, hqq] at ht
                rcases List.mem_append.1 ht with h | h
                · exact HX2.out t h
                · have := HI2.out t h
                  omega)
              have hl9 : (Q ++ [(⟨t0, ad, len, cap⟩ : aY)]).length + Q'.length ≤ 2097152 := by simp; omega
              clear ho9 hb9 hoq hqq hb
              go_wp2_with (refine iV rfl _ _ rfl w.heap.size _ v6 v' (Q ++ [(⟨t0, ad, len, cap⟩ : aY)]) Q' rfl rfl HO9.out HOQ.out (fun q hq => ⟨(HOQ.out.2 q hq).1, .inl (HQA.out q hq)⟩) hl9 HB9.out.size ?_; intro v9 w9 ho9 hg9)
              have HO10 := Lib.hid ho9
              have HB10 := Lib.hid (HB9.out.grown hg9 HB9.out.size (fun k hk => (HO9.out.lt k hk).1))
              clear ho9 hg9
              go_roundw
              case rel => exact ⟨i + m + R2, _, by first | rfl | trivial | go_num | (simp), HO10.out, HB10.out, by omega, by simp; omega, HS9, HX9⟩
              case measure => simp [ae]; omega
        · have hns : ¬ kQ t0 := fun e => hk1 (hK.symm.trans e.1)
          have HS := Lib.hid (show bX ((Q ++ [(⟨t0, ad, len, cap⟩ : aY)]).map aY.t ++ eD (s.data.toList.drop (i + m))) = T by
            have := HT.out
            rw [HPL.out (by first | rfl | trivial) hns] at this
            rw [List.map_append, List.append_assoc]; exact this)
          have bk : (K == 1) = false := beq_eq_false_iff_ne.2 hk1
          clear hns hnm hnm2 hK hk1 HNO HPL HSP HLO
          go_wp2
          go_roundw
          case rel => exact ⟨i + m, Q ++ [⟨t0, ad, len, cap⟩], by first | rfl | trivial | go_num, HP.out.1, HP.out.2, by omega, by simp; omega, HS, HX2⟩
          case measure => simp [ae]; omega
    · have his : i = s.size := by omega
      have HJ2 : Hid (bX (Q.map aY.t) = T) := Lib.hid (by
        have := HT.out
        rw [List.drop_eq_nil_of_le (by rw [← Lib.size_eq]; omega), xB, List.append_nil] at this
        exact this)
      obtain ⟨a7, c7, rfl, hto⟩ := HO.out.told
      have HJ := Lib.hid (fun w (h : gr w a7 Q.length c7 (Q.map aY.t)) => uw a7 Q.length c7 (Q.map aY.t) w h (by omega) HX.out)
      have HTO := Lib.hid hto
      clear hto HNX HT
      go_wp2_with (fail)
      refine (HJ.out _ HTO.out).mono ?_
      rintro e w6 ⟨v6, Q6, rfl, ho6, hq6, b6⟩
      have HO6 := Lib.hid (ho6.base HB.out.size)
      have HQ6 := Lib.hid (hq6.trans HJ2.out)
      have HB6 := Lib.hid (HB.out.trans (b6.mono HB.out.size))
      clear ho6 hq6 b6
      go_wp2
      go_ret
      exact ⟨_, Q6, rfl, HO6.out, HQ6.out, HB6.out⟩
end Go.Proofs.YtajpoodpbbbkfaaGreatDoor
namespace Go.Proofs.YtajpoodpbbbkfaaGreatDoor
open Go.RowKit Go.Lib
theorem Gs (t:aq) (st:Int) (h:(if t.kind=1 then dx t.name else 0)=st):(st=0→¬kQ t)∧(st≠0→kQ t∧dx t.name=st):=by
 by_cases hk:t.kind=1
 ·rw [if_pos hk] at h
  exact ⟨fun h0 e=>e.2 (h.trans h0),fun h0=>⟨⟨hk,fun e=>h0 (h.symm.trans e)⟩,h⟩⟩
 ·rw [if_neg hk] at h
  exact ⟨fun _ e=>hk e.1,fun h0=>absurd h.symm h0⟩
theorem pj (s : ByteArray) (w : World) (hs : s.size ≤ 1048576) (h : bn w) :
    Calls Tryz.prog 14 #[.string s] w (Pc (kZ s.data.toList) w) := by
  obtain ⟨i0, hi0, hz0, hz1, hz2⟩ := info_parts gL
  obtain ⟨T, hT⟩ : ∃ T, kZ s.data.toList = T := ⟨_, rfl⟩
  rw [hT]
  have HT0 : Hid (bX (eD s.data.toList) = T) := Lib.hid hT
  have HW := Lib.hid h
  have HNX := fun (i : Nat) (h : i < s.size) w hl => Lib.hid (x8 s (i : Int) w hs (by omega) hl)
  clear hT h
  go_enter Tryz.func14, Tryz.ntmps14
  go_wp2
  go_loopw [3, 4] (fun v3 v4 wr => ∃ (i : Nat) (Q : List aY), v4 = .int .i64 (i : Int) ∧ aH wr w.heap.size v3 Q ∧ Below w.heap.size w wr ∧ i ≤ s.size ∧ Q.length ≤ i ∧ Hid (bX (Q.map aY.t ++ eD (s.data.toList.drop i)) = T) ∧ Hid (∀ t ∈ Q.map aY.t, t.text.length ≤ 16777216 ∧ jO t) ∧ Hid (∀ q ∈ Q, jh w.heap.size q)) (fun _ v _ => s.size - (ae v).toNat)
  case atStart => exact ⟨0, [], rfl, bK _ _, Below.refl _ _, Nat.zero_le _, Nat.zero_le _, Lib.hid (by rw [List.drop_zero]; exact HT0.out), Lib.hid (fun t h => by cases h), Lib.hid (fun q h => by cases h)⟩
  case round =>
    obtain ⟨i, Q, rfl, ho, hb, hi, hql, HT, HX, HN0⟩ := hrel
    have HO := Lib.hid ho
    have HB := Lib.hid hb
    have hbs := hb.size
    clear ho hb HT0
    by_cases hlt : i < s.size
    · have hne : s.data.toList.drop i ≠ [] := fun e => by
        have := (drop_nil s i hi).1 e; omega
      have hin := IN (s.data.toList.drop i)
      have htx := xo (s.data.toList.drop i)
      have hjt := LO (s.data.toList.drop i)
      have hno := Kx (s.data.toList.drop i) hne
      have hpl := wq (s.data.toList.drop i) hne
      have hsp := Bd (s.data.toList.drop i) hne
      have hlo := ws (s.data.toList.drop i)
      have hnl := LY (s.data.toList.drop i)
      have hzt := LZ (s.data.toList.drop i)
      rw [List.length_drop, ← Lib.size_eq] at hin htx hnl
      have hm1 := hin.2 hne
      have hm2 := hin.1
      have HN := fun w hl => HNX i hlt w hl
      simp only [IO s.data.toList i (by rw [← Lib.size_eq]; exact hi)] at HN
      rw [List.drop_drop] at hno hpl hsp
      obtain ⟨t0, ht0⟩ : ∃ t, (nx (s.data.toList.drop i)).1 = t := ⟨_, rfl⟩
      obtain ⟨m, hm⟩ : ∃ m, (nx (s.data.toList.drop i)).2.1 = m := ⟨_, rfl⟩
      obtain ⟨ok0, hok⟩ : ∃ m, (nx (s.data.toList.drop i)).2.2 = m := ⟨_, rfl⟩
      simp only [ht0, hm, hok] at HN hno hpl hsp hlo hm1 hm2 htx hjt hnl hzt
      have HTT := Lib.hid htx
      have HJT := Lib.hid hjt
      have HNO := Lib.hid hno
      have HPL := Lib.hid hpl
      have HSP := Lib.hid hsp
      have HLO := Lib.hid hlo
      have HBH := fun ad len cap w h => Lib.hid (uD t0 ad len cap w (by omega) h)
      obtain ⟨st, hst⟩ : ∃ st, (if t0.kind = 1 then dx t0.name else 0) = st := ⟨_, rfl⟩
      rw [hst] at HBH
      have HSTT := Lib.hid (Gs t0 st hst)
      have HZT := Lib.hid hzt
      clear ht0 hm hok htx hin hne HNX hjt hno hpl hsp hlo hnl hzt hst
      go_wp2_with (fail)
      refine (HN _ (HW.out.below HB.out)).out.mono ?_
      rintro e w5 ⟨t, ad, len, cap, n, ok, rfl, hr, hv, b5, hf⟩
      simp only [Prod.mk.injEq] at hv
      obtain ⟨rfl, rfl, rfl⟩ := hv
      have HO5 := Lib.hid (HO.out.below b5)
      have HA5 := Lib.hid (iA (q := ⟨t0, ad, len, cap⟩) HO.out hr hf)
      have HNA := Lib.hid (show jh w.heap.size ⟨t0, ad, len, cap⟩ from hf.elim .inl (fun h => .inr fun k hk => Nat.le_trans HB.out.size (h k hk)))
      have B5 := Lib.hid (HB.out.trans (b5.mono HB.out.size))
      have hbs5 := B5.out.size
      have HW5 := Lib.hid (show wr.heap.size ≤ w5.heap.size from b5.size)
      have HBB := fun w h => Lib.hid (HBH ad len cap w h).out
      clear b5 hr hf HN HBH
      unfold eu
      cases ok0
      · have H0 : st = 0 := by
          by_cases h0 : st = 0
          · exact h0
          · have e := (HSTT.out.2 h0).1.1
            rw [HZT.out (by first | rfl | trivial)] at e
            exact absurd e (by decide)
        subst H0
        have HS := Lib.hid (show bX (Q.map aY.t ++ eD (s.data.toList.drop (i + m))) = T by rw [← HNO.out (by first | rfl | trivial)]; exact HT.out)
        have A6 := Lib.hid (B5.out.alloc hbs5 (.cells #[.int .i64 t0.kind, .string ⟨t0.name.toArray⟩, .string ⟨t0.text.toArray⟩, .slice ad len cap, .bool t0.self] 33))
        have HTA := Lib.hid (pB w5 t0 ad len cap 33)
        have HO6 := Lib.hid (HO5.out.alloc (.cells #[.int .i64 t0.kind, .string ⟨t0.name.toArray⟩, .string ⟨t0.text.toArray⟩, .slice ad len cap, .bool t0.self] 33))
        clear HNO HPL HSP HLO HSTT HZT HNA HA5
        go_wp2_with (first
          | (refine cC rfl _ rfl w5.heap.size t0 ad len cap rfl HTA.out ?_)
          | (go_at_call 27; refine (HBB _ (HW.out.below A6.out)).out.mono ?_; rintro e w7 ⟨rfl, b7⟩; have HO7 := Lib.hid (HO6.out.below b7); have B7 := Lib.hid (A6.out.trans (b7.mono A6.out.size)); clear b7))
        go_roundw
        case rel => exact ⟨i + m, Q, by first | rfl | trivial | go_num, HO7.out, B7.out, by omega, by omega, HS, HX, HN0⟩
        case measure => simp [ae]; omega
      · have HX2 : Hid (∀ t ∈ (Q ++ [(⟨t0, ad, len, cap⟩ : aY)]).map aY.t, t.text.length ≤ 16777216 ∧ jO t) := Lib.hid (by
          intro t ht
          rw [List.map_append, List.mem_append] at ht
          rcases ht with h | h
          · exact HX.out t h
          · simp only [List.map_cons, List.map_nil, List.mem_cons, List.not_mem_nil, or_false] at h
            rw [h]
            have := HTT.out
            exact ⟨by omega, HJT.out⟩)
        have HN2 : Hid (∀ q ∈ Q ++ [(⟨t0, ad, len, cap⟩ : aY)], jh w.heap.size q) := Lib.hid (by
          intro q hq
          rcases List.mem_append.1 hq with h | h
          · exact HN0.out q h
          · rw [List.mem_singleton.1 h]; exact HNA.out)
        have HO6 := Lib.hid ((HO5.out.alloc (.cells #[.int .i64 t0.kind, .string ⟨t0.name.toArray⟩, .string ⟨t0.text.toArray⟩, .slice ad len cap, .bool t0.self] 33)).alloc (.cells #[.int .i64 t0.kind, .string ⟨t0.name.toArray⟩, .string ⟨t0.text.toArray⟩, .slice ad len cap, .bool t0.self] 33))
        clear HZT HNA
        go_wp2_with (at_builtin; refine wpList_append_own_at _ rfl _ _ 29 rfl w.heap.size 33 i0 _ 5 72 Tryz.underlying29 hi0 hz0 hz1 hz2 rfl (by decide) _ Q.length (ag Q) rfl (HO6.out).1 ⟨w5.heap.size + 1, 0, none⟩ 1 1 (ag [⟨t0, ad, len, cap⟩]) rfl rfl ?c1 ?c2 ?c3 ?c4 ?c5 ?_)
        case c1 => first | exact bW _ ⟨t0, ad, len, cap⟩ _ _ (by simp) | (intro j u hj; rw [bt] at hj; exact hj)
        case c2 => exact dl _
        case c3 => first | (simp [maxLen]; done) | (simp [maxLen]; omega) | omega
        case c4 => first | decide | omega
        case c5 => first | omega | (simp; omega)
        intro v6 w6 hown1 hgr1 _ hat1
        have HP := Lib.hid (dc HO6.out (HA5.out.below (((Below.refl _ w5).alloc (Nat.le_refl _) _).alloc (by simp) _)) ((B5.out.alloc hbs5 _).alloc (by simp; omega) _) (Nat.le_refl _) hown1 hgr1 (by simpa using hat1))
        have HBX := Lib.hid (aN (w := w6) (g := w5.heap.size) (t := t0) (ad := ad) (len := len) (cap := cap) ((hgr1.block w5.heap.size (by simp; try omega) (fun e => by have := (HO.out.lt _ e.symm).2; have := HW5.out; omega)).trans ((Below.heap_alloc _ _ _ (by simp)).trans (heap_alloc_new w5 _))))
        have hs6 : w.heap.size ≤ w6.heap.size := HP.out.2.size
        clear hown1 hgr1 hat1
        by_cases h0 : st = 0
        · have HS := Lib.hid (show bX ((Q ++ [(⟨t0, ad, len, cap⟩ : aY)]).map aY.t ++ eD (s.data.toList.drop (i + m))) = T by
            have := HT.out
            rw [HPL.out (by first | rfl | trivial) (HSTT.out.1 h0)] at this
            rw [List.map_append, List.append_assoc]; exact this)
          subst h0
          clear HNO HPL HSP HLO HSTT
          go_wp2_with (first
            | (refine cC rfl _ rfl w5.heap.size t0 ad len cap rfl HBX.out ?_)
            | (go_at_call 27; refine (HBB _ (HW.out.below HP.out.2)).out.mono ?_; rintro e w7 ⟨rfl, b7⟩; have HO7 := Lib.hid (HP.out.1.below b7); have B7 := Lib.hid (HP.out.2.trans (b7.mono HP.out.2.size)); clear b7))
          go_roundw
          case rel => exact ⟨i + m, Q ++ [⟨t0, ad, len, cap⟩], by first | rfl | trivial | go_num, HO7.out, B7.out, by omega, by simp; omega, HS, HX2, HN2⟩
          case measure => simp [ae]; omega
        · obtain ⟨hsp, hst⟩ := HSTT.out.2 h0
          have HL := Lib.hid (HLO.out (by first | rfl | trivial) hsp)
          have hm3 := HL.out.1
          have HS1 := HSP.out (by first | rfl | trivial) hsp
          rw [hst] at HS1
          have him : i + m ≤ s.size := by omega
          have HRV := Be st t0.name s.data.toList (i + m) (by rw [← Lib.size_eq]; exact him)
          have HRS := wt t0.name (s.data.toList.drop (i + m)) hsp.2
          have HRI := rC st t0.name (s.data.toList.drop (i + m))
          have HRJ := Fs st t0.name (s.data.toList.drop (i + m))
          rw [hst] at HRS
          obtain ⟨nm, hnm⟩ : ∃ nm : ByteArray, (⟨t0.name.toArray⟩ : ByteArray) = nm := ⟨_, rfl⟩
          have hnm2 : nm.data.toList = t0.name := by rw [← hnm, List.toList_toArray]
          have HRR := fun w h => ya s ((i + m : Nat) : Int) st nm w hs (by rw [Lib.size_eq, hnm2]; have := HL.out.2; omega) (by omega) h
          simp only [hnm2, HRV] at HRR
          obtain ⟨R, hR⟩ : ∃ R, c9 st t0.name (s.data.toList.drop (i + m)) = R := ⟨_, rfl⟩
          rw [hR, List.drop_drop] at HS1
          rw [hR] at HRS HRI HRJ
          simp only [hR] at HRR
          rw [List.length_drop, ← Lib.size_eq] at HRI
          obtain ⟨R1, R2⟩ := R
          simp only at HS1 HRS HRI HRR HRJ
          obtain ⟨HRI1, HRI2⟩ := HRI
          have HI2 := Lib.hid HRI2
          have HRJ1 := Lib.hid HRJ
          have HS := Lib.hid (show bX ((Q ++ [(⟨t0, ad, len, cap⟩ : aY)]).map aY.t ++ (R1 ++ eD (s.data.toList.drop (i + m + R2)))) = T by
            have := HT.out
            rw [HS1] at this
            rw [List.map_append, List.append_assoc]; exact this)
          have HRS' := Lib.hid HRS
          have hst0 : (st == 0) = false := beq_eq_false_iff_ne.2 h0
          have hst1 : (st != 0) = true := by rw [bne, hst0]; rfl
          have HNM := Lib.hid hnm
          have hlt5 : w5.heap.size < w6.heap.size := by
            have := block_lt_of_cell HBX.out.1
            exact this
          have HLT := Lib.hid hlt5
          have cR := fun u h => Lib.hid (show Calls Tryz.prog 28 #[.string s, .int .i64 ((i : Int) + (m : Int)), .int .i64 st, .string nm] u fun e v => ∃ v' Q', e = .returned (.tuple #[v', .int .i64 ((i : Int) + (m : Int) + (R2 : Int))]) ∧ aH v u.heap.size v' Q' ∧ Q'.map aY.t = R1 ∧ Q'.length ≤ 2 ∧ Below u.heap.size u v from by
            have := HRR u h
            rw [Int.natCast_add] at this
            refine this.mono ?_
            rintro e v ⟨v', Q', n', rfl, h1, h2, h3, h4, h5⟩
            simp only [Prod.mk.injEq] at h2
            obtain ⟨h2, rfl⟩ := h2
            exact ⟨v', Q', by simp only [Int.natCast_add], h1, h2, h3, h5⟩)
          clear HRR hlt5 HNO HPL HSP HLO HSTT hsp HRV HS1 HRS HRI2 HRJ hR h0 hst hnm hnm2
          go_wp2_with (first
            | (refine cC rfl _ rfl w5.heap.size t0 ad len cap rfl HBX.out ?_)
            | (go_at_call 27; refine (HBB _ (HW.out.below HP.out.2)).out.mono ?_; rintro e w7 ⟨rfl, b7⟩; have HO7 := Lib.hid (HP.out.1.below b7); have B7 := Lib.hid (HP.out.2.trans (b7.mono HP.out.2.size)); have x1 := (HBX.out.below b7 HLT.out).2.1; rw [HNM.out] at x1; clear b7)
            | (go_at_call 28; refine (cR _ (HW.out.below B7.out)).out.mono ?_; rintro e w8 ⟨v', Q', rfl, ho8, hq8, hl8, b8⟩; have HO8 := Lib.hid (HO7.out.below b8); have B8 := Lib.hid (B7.out.trans (b8.mono B7.out.size)); have HOQ := Lib.hid ho8; have HQQ := Lib.hid hq8; have HQL := Lib.hid hl8; have HQA := Lib.hid (show ∀ q ∈ Q', q.t.attrs = [] from fun q hq => HRS'.out q.t (by rw [← hq8]; exact List.mem_map.2 ⟨q, hq, rfl⟩)); clear b8 ho8 hq8 hl8)
            | (refine iV rfl _ _ rfl w.heap.size _ v6 v' (Q ++ [(⟨t0, ad, len, cap⟩ : aY)]) Q' rfl rfl HO8.out HOQ.out (fun q hq => ⟨(HOQ.out.2 q hq).1, .inl (HQA.out q hq)⟩) (by have := HQL.out; simp; omega) B8.out.size ?_; intro v9 w9 ho9 hg9))
          have HO9 := Lib.hid ho9
          have HB9 := Lib.hid (B8.out.grown hg9 B8.out.size (fun k hk => (HO8.out.lt k hk).1))
          have HS9 := Lib.hid (show bX ((Q ++ [(⟨t0, ad, len, cap⟩ : aY)] ++ Q').map aY.t ++ eD (s.data.toList.drop (i + m + R2))) = T by
            rw [List.map_append, HQQ.out, List.append_assoc]; exact HS.out)
          have HX9 := Lib.hid (show ∀ t ∈ (Q ++ [(⟨t0, ad, len, cap⟩ : aY)] ++ Q').map aY.t, t.text.length ≤ 16777216 ∧ jO t from fun t ht => by
            rw [List.map_append, HQQ.out] at ht
            rcases List.mem_append.1 ht with h | h
            · exact HX2.out t h
            · have := HI2.out t h
              exact ⟨by omega, HRJ1.out t h⟩)
          have HN9 := Lib.hid (show ∀ q ∈ Q ++ [(⟨t0, ad, len, cap⟩ : aY)] ++ Q', jh w.heap.size q from fun q hq => by
            rcases List.mem_append.1 hq with h | h
            · exact HN2.out q h
            · exact .inl (HQA.out q h))
          have hq9 := HQL.out
          clear ho9 hg9
          go_roundw
          case rel => exact ⟨i + m + R2, _, by first | rfl | trivial | go_num | (simp), HO9.out, HB9.out, by omega, by simp; omega, HS9, HX9, HN9⟩
          case measure => simp [ae]; omega
    · have his : i = s.size := by omega
      have HJ2 : Hid (bX (Q.map aY.t) = T) := Lib.hid (by
        have := HT.out
        rw [List.drop_eq_nil_of_le (by rw [← Lib.size_eq]; omega), xB, List.append_nil] at this
        exact this)
      obtain ⟨a7, c7, rfl, hto⟩ := HO.out.toldN w.heap.size HN0.out
      have HJ := Lib.hid (fun w1 (h : cd w1 w.heap.size a7 Q.length c7 (Q.map aY.t)) => Bc w.heap.size a7 Q.length c7 (Q.map aY.t) w1 h (by omega) (fun t ht => (HX.out t ht).1) (fun t ht => (HX.out t ht).2))
      have HTO := Lib.hid hto
      clear hto HNX HT
      go_wp2_with (fail)
      refine (HJ.out _ HTO.out).mono ?_
      rintro e w6 ⟨v6, Q6, rfl, ho6, hq6, hn6, b6⟩
      obtain ⟨a8, c8, rfl, ht8⟩ := ho6.toldN w.heap.size hn6
      rw [hq6, HJ2.out] at ht8
      have HT8 := Lib.hid ht8
      have HB6 := Lib.hid (HB.out.trans (b6.mono HB.out.size))
      clear ho6 hq6 b6 ht8 hn6
      go_wp2
      go_ret
      exact ⟨a8, _, c8, rfl, HT8.out, HB6.out⟩
end Go.Proofs.YtajpoodpbbbkfaaGreatDoor
