/-
  What package attrs' Read answers.
-/
import Derived.Test.YtpdmnnfbdeiejaaGreatDoorAttOne
import Derived.Test.YtpdmnnfbdeiejaaGreatDoorAttKnow
import Derived.Test.YtpdmnnfbdeiejaaGreatDoorAttAdd
import Derived.Test.YtpdmnnfbdeiejaaGreatDoorAttSame
import Derived.Test.YtpdmnnfbdeiejaaGreatDoorP3
namespace Go.Proofs.YtpdmnnfbdeiejaaGreatDoor
open Go.RowKit Go.Lib Go.Maps

theorem zeroBool (w : World) : (zeroValue 4).run Tryz.prog w = .ok (.bool false) w := by kernel_rfl
/-- the frame at the label -/
def frR (s : ByteArray) (a : Int) (lv : Value) (B : Nat) (u : Nat → Value) : Act :=
  { tmps := #[.string s, .int .i64 a, u 2, u 3, lv, u 5, u 6, u 7, .map (some B), u 9, u 10, u 11, u 12, u 13, u 14, u 15, u 16, u 17, u 18, u 19, u 20, u 21, u 22, u 23, u 24, u 25, u 26, u 27, u 28, u 29, u 30, u 31, u 32, u 33, u 34, u 35, u 36, u 37, u 38, u 39, u 40, u 41, u 42, u 43, u 44, u 45, u 46, u 47, u 48, u 49, u 50, u 51, u 52, u 53, u 54, u 55, u 56, u 57, u 58, u 59, u 60, u 61, u 62, u 63, u 64, u 65, u 66, u 67, u 68, u 69, u 70, u 71, u 72, u 73, u 74, u 75, u 76, u 77], defers := [] }
/-- which names are there -/
def namesF (l : List Ln) : Txt → Bool := fun k => l.any (fun r => r.1 == k)
theorem names_add (l : List Ln) (n v : Txt) : (fun u => decide (u = n) || namesF l u) = namesF (l ++ [(n, v)]) := by
  funext u
  unfold namesF
  rw [List.any_append, List.any_cons, List.any_nil, Bool.or_false]
  by_cases h : u = n
  · rw [decide_eq_true h, h, beq_self_eq_true n, Bool.or_true, Bool.true_or]
  · rw [decide_eq_false h, Bool.false_or, show (n == u) = false by rw [beq_eq_false_iff_ne]; exact fun e => h e.symm, Bool.or_false]
theorem attr_step (l : Txt) (i : Nat) (h : i < l.length) (hb : begB l[i] = true) (ls : List Ln) (T : Option Told) (hT : runI i (.s0 ls) (l.drop i) = T) :
    runI (i + (attT (l.drop i)).2) (.s0 (addL ls (anT (l.drop i)) (attT (l.drop i)).1)) (l.drop (i + (attT (l.drop i)).2)) = T := by
  rw [← hT]
  unfold runI
  have ht : l.drop i = l[i] :: l.drop (i + 1) := List.drop_eq_getElem_cons h
  rw [← List.drop_drop]
  rw [ht]
  rw [run_att ls l[i] (l.drop (i + 1)) hb, upN_add, Nat.add_comm]

set_option maxRecDepth 100000 in
set_option maxHeartbeats 8000000 in
/-- P8.1 -/
theorem attrs_any (s : ByteArray) (a : Int) (w : World) (hs : s.size ≤ 1048576) (ha : -9223372036854775808 ≤ a ∧ a ≤ 9223372036854775807) (h : LaidAt w) :
    Calls Tryz.prog 5 #[.string s, .int .i64 a] w (TellP s a w) := by
  have HT := Lib.hid h
  clear h
  by_cases h0 : a < 0
  · have HV := Lib.hid (attrs_out s.data.toList a (by omega))
    go_enter Tryz.func5, Tryz.ntmps5
    go_wp2
    refine wp_scope_label 0 (fun _ _ => False) (fun _ _ => 0) rfl (fun _ _ h => h.elim) ?_
    intro _
    go_wp2
    simp only [Exit.jump]
    try simp only [Exit.inBlock, Exit.then]
    refine bodyPost_ret (results_tmp4 rfl _ _ _) rfl ?_
    exact ⟨_, _, _, _, _, _, _, rfl, isRows_none _, HV.out, Below.refl _ _⟩
  by_cases h1 : (s.size : Int) < a
  · have HV := Lib.hid (attrs_out s.data.toList a (by rw [← Lib.size_eq]; omega))
    go_enter Tryz.func5, Tryz.ntmps5
    go_wp2
    refine wp_scope_label 0 (fun _ _ => False) (fun _ _ => 0) rfl (fun _ _ h => h.elim) ?_
    intro _
    go_wp2
    simp only [Exit.jump]
    try simp only [Exit.inBlock, Exit.then]
    refine bodyPost_ret (results_tmp4 rfl _ _ _) rfl ?_
    exact ⟨_, _, _, _, _, _, _, rfl, isRows_none _, HV.out, Below.refl _ _⟩
  obtain ⟨k, rfl⟩ : ∃ k : Nat, a = k := ⟨a.toNat, by omega⟩
  have hk : k ≤ s.size := by omega
  have HV0 := Lib.hid (fun h => attrs_none s.data.toList k (by rw [← Lib.size_eq]; exact hk) h)
  have HV1 := Lib.hid (fun l self n h => attrs_some s.data.toList k (by rw [← Lib.size_eq]; exact hk) l self n h)
  obtain ⟨T, hT⟩ : ∃ T, runI k (.s0 []) (s.data.toList.drop k) = T := ⟨_, rfl⟩
  rw [hT] at HV0 HV1
  have HK := Lib.hid hT
  clear hT h0 h1 ha
  obtain ⟨i0, hi0, hz0, hz1, hz2⟩ := info_parts info_attr
  have d0 : decide ((k : Int) < 0) = false := decide_eq_false (by omega)
  have d1 : decide (s.size < k) = false := decide_eq_false (by omega)
  have hmm := @run_makeMap Tryz.prog
  have hs2 : s.size ≤ 1099511627776 := by omega
  go_enter Tryz.func5, Tryz.ntmps5
  go_wp2
  refine wp_scope_label 0 (fun a' wr => ∃ (i n : Nat) (l : List Ln) (lv : Value), a' = frR s (i : Int) lv w.heap.size (fun n => a'.tmps.getD n undef) ∧ wr.ownsRow (w.heap.size + 1) 29 2 lv l.length (cellsR l) ∧ MapIs wr Tryz.prog 9 4 w.heap.size n (namesF l) ∧ Below w.heap.size w wr ∧ i ≤ s.size ∧ n ≤ i ∧ l.length ≤ i ∧ runI i (.s0 l) (s.data.toList.drop i) = T)
    (fun a' _ => s.size - (intOf (a'.tmps.getD 1 undef)).toNat) rfl ?_ ?_
  · rintro a' wr ⟨i, n, l, lv, hfr, hown, hmap, hbw, hle, hn, hl, hT⟩
    obtain ⟨u, rfl⟩ : ∃ u, a' = frR s (i : Int) lv w.heap.size u := ⟨_, hfr⟩
    clear hfr
    unfold frR
    have HO := Lib.hid hown
    have HM := Lib.hid hmap
    have HB := Lib.hid hbw
    have HX := Lib.hid hT
    clear hown hmap hbw hT HK
    by_cases hlt : i < s.size
    · have HG := fun w => Lib.hid (begins s (i : Int) ⟨#[47, 62]⟩ w hs2 (by decide) (by omega) (by omega))
      rw [beg_close s i hle] at HG
      have db : ((i : Int) == (s.size : Int)) = false := by simp; omega
      have hx := HX.out
      rw [drop_at s i hlt] at hx
      have hb1 := s[i].toNat_lt
      have HSp := fun w => Lib.hid (space_any s[i] _ w rfl)
      by_cases c62 : s[i] = 62
      · have HN := Lib.hid (HV1.out l false (i + 1) (runI_done (go0_end c62) hx))
        rw [show ((i + 1 : Nat) : Int) = (i : Int) + 1 by omega] at HN
        have h62 : ((s[i].toNat : Int) == 62) = true := by rw [c62]; rfl
        obtain ⟨ad, cap, rfl, hr⟩ := isRows_own l HO.out
        have HR := Lib.hid hr
        clear hr HO hx c62 HG HSp HM HX hb1
        go_wp2
        simp only [Exit.jump]
        try simp only [Exit.inBlock, Exit.then]
        refine bodyPost_ret (results_tmp4 rfl _ _ _) rfl ?_
        exact ⟨_, _, _, _, _, _, _, rfl, HR.out, HN.out, HB.out⟩
      have h62 : ((s[i].toNat : Int) == 62) = false := by
        rw [beq_eq_false_iff_ne]; exact fun h => c62 (u8_eq _ 62 (by decide) h)
      by_cases hcl : (s.data.toList.drop i).head? = some 47 ∧ (s.data.toList.drop (i + 1)).head? = some 62
      · rw [decide_eq_true hcl] at HG
        have c47 : s[i] = 47 := by have := hcl.1; rw [drop_at s i hlt, List.head?_cons, Option.some.injEq] at this; exact this
        have hlt2 : i + 1 < s.size := Nat.lt_of_not_le fun h => by
          have := hcl.2; rw [List.drop_eq_nil_of_le (by rw [← Lib.size_eq]; exact h)] at this; simp at this
        have HN := Lib.hid (HV1.out l true (i + 2) (runI_done (go0_self c47 hcl.2) hx))
        rw [show ((i + 2 : Nat) : Int) = (i : Int) + 2 by omega] at HN
        obtain ⟨ad, cap, rfl, hr⟩ := isRows_own l HO.out
        have HR := Lib.hid hr
        clear hr HO hx c62 c47 hcl HSp HM HX hb1
        go_wp2_with (fail)
        refine (HG _).out.mono ?_
        rintro e w1 ⟨rfl, n1, rfl⟩
        go_wp2
        simp only [Exit.jump]
        try simp only [Exit.inBlock, Exit.then]
        refine bodyPost_ret (results_tmp4 rfl _ _ _) rfl ?_
        exact ⟨_, _, _, _, _, _, _, rfl, HR.out.below (dr_below _ _ _) (Nat.le_refl _), HN.out, HB.out.trans (dr_below _ _ _)⟩
      rw [decide_eq_false hcl] at HG
      by_cases c47 : s[i] = 47
      · have hn62 : (s.data.toList.drop (i + 1)).head? ≠ some 62 := fun h => hcl ⟨by rw [drop_at s i hlt, List.head?_cons, c47], h⟩
        have HN := Lib.hid (runI_more (go0_stroke c47 hn62) hx)
        have h47 : ((s[i].toNat : Int) == 47) = true := by rw [c47]; rfl
        clear hx c62 c47 hcl hn62 HSp HX hb1
        go_wp2_with (fail)
        refine (HG _).out.mono ?_
        rintro e w1 ⟨rfl, n1, rfl⟩
        go_wp2
        go_step3
        refine ⟨rfl, ⟨i + 1, n, l, lv, rfl, own_below HO.out (dr_below _ _ _), HM.out.below (dr_below _ _ _), HB.out.trans (dr_below _ _ _), hlt, by omega, by omega, HN.out⟩, ?_⟩
        simp [intOf]; omega
      have h47 : ((s[i].toNat : Int) == 47) = false := by
        rw [beq_eq_false_iff_ne]; exact fun h => c47 (u8_eq _ 47 (by decide) h)
      by_cases hsp : spB s[i] = true
      · have HN := Lib.hid (runI_more (go0_space hsp) hx)
        rw [hsp] at HSp
        clear hx c62 c47 hcl hsp HX hb1
        go_wp2_with (fail)
        refine (HG _).out.mono ?_
        rintro e w1 ⟨rfl, n1, rfl⟩
        go_wp2_with (fail)
        refine (HSp _).out.mono ?_
        rintro e w2 ⟨rfl, rfl⟩
        go_wp2
        go_step3
        refine ⟨rfl, ⟨i + 1, n, l, lv, rfl, own_below HO.out (dr_below _ _ _), HM.out.below (dr_below _ _ _), HB.out.trans (dr_below _ _ _), hlt, by omega, by omega, HN.out⟩, ?_⟩
        simp [intOf]; omega
      have hsf : spB s[i] = false := by simpa using hsp
      have hbeg : begB s[i] = true := by unfold begB; rw [hsf]; simp [c62, c47]
      have HA := fun w => Lib.hid (attribute_any s (i : Int) i w hs2 rfl hlt)
      have hstep := attr_step s.data.toList i (by rw [← Lib.size_eq]; exact hlt) hbeg l T HX.out
      have hbd := attT_bounds s[i] (s.data.toList.drop (i + 1))
      rw [← drop_at s i hlt, List.length_drop, ← Lib.size_eq] at hbd
      have hnm := anT_le (s.data.toList.drop i)
      rw [List.length_drop, ← Lib.size_eq] at hnm
      rw [hsf] at HSp
      have hNc := (cleanL_len (lowL (anT (s.data.toList.drop i)))).2
      rw [lowL_len] at hNc
      obtain ⟨N, hN⟩ : ∃ N : ByteArray, ⟨(tellN (anT (s.data.toList.drop i))).toArray⟩ = N := ⟨_, rfl⟩
      obtain ⟨V, hV⟩ : ∃ V : ByteArray, ⟨(attT (s.data.toList.drop i)).1.toArray⟩ = V := ⟨_, rfl⟩
      obtain ⟨m, hm⟩ : ∃ m, i + (attT (s.data.toList.drop i)).2 = m := ⟨_, rfl⟩
      have hNl : N.data.toList = tellN (anT (s.data.toList.drop i)) := by rw [← hN, List.toList_toArray]
      have hVl : V.data.toList = (attT (s.data.toList.drop i)).1 := by rw [← hV, List.toList_toArray]
      have hNs : N.size ≤ 3145728 := by rw [Lib.size_eq, hNl]; unfold tellN; omega
      have hVs : V.size ≤ 1048576 := by rw [Lib.size_eq, hVl]; omega
      rw [hN, hV, hm] at HA
      rw [hm] at hstep
      have hm1 : i < m := by omega
      have hm2 : m ≤ s.size := by omega
      have hNm : N.size ≤ maxLen := by unfold maxLen; omega
      have HNV := Lib.hid (show (Value.string N) = strV (tellN (anT (s.data.toList.drop i))) by rw [← hN]; rfl)
      have HNL := Lib.hid hNl
      cases hF : namesF l N.data.toList
      · have hadd : addL l (anT (s.data.toList.drop i)) (attT (s.data.toList.drop i)).1 = l ++ [(tellN (anT (s.data.toList.drop i)), tellV (attT (s.data.toList.drop i)).1)] := by
          unfold addL
          rw [if_neg (by rw [← hNl]; unfold namesF at hF; rw [hF]; exact Bool.false_ne_true)]
        rw [hadd] at hstep
        have HST := Lib.hid hstep
        have HD := fun w h1 h2 => Lib.hid (decode_any V true w (by omega) h1 h2)
        have hds : (⟨(ddL true V.data.toList).toArray⟩ : ByteArray).size ≤ 1099511627776 := by
          rw [Lib.size_eq, List.toList_toArray]
          have := dd_len true V.data.toList.length V.data.toList (Nat.le_refl _)
          rw [← Lib.size_eq] at this
          omega
        have HC := fun w => Lib.hid (clean_any ⟨(ddL true V.data.toList).toArray⟩ w hds)
        rw [List.toList_toArray, show cleanL (ddL true V.data.toList) = tellV (attT (s.data.toList.drop i)).1 by rw [hVl]; rfl] at HC
        obtain ⟨D, hD⟩ : ∃ D : ByteArray, ⟨(ddL true V.data.toList).toArray⟩ = D := ⟨_, rfl⟩
        obtain ⟨W, hW⟩ : ∃ W : ByteArray, ⟨(tellV (attT (s.data.toList.drop i)).1).toArray⟩ = W := ⟨_, rfl⟩
        rw [hD] at HD HC
        rw [hW] at HC
        have HWV := Lib.hid (show (Value.string W) = strV (tellV (attT (s.data.toList.drop i)).1) by rw [← hW]; rfl)
        have hne : lv.ownBlock = none ∨ lv.ownBlock ≠ some w.heap.size := .inr fun e => by
          have := (HO.out.lt _ e).1; omega
        have hne2 : some w.heap.size ≠ lv.ownBlock := fun e => by
          have := (HO.out.lt _ e.symm).1; omega
        have HNE := Lib.hid hne
        have HNE2 := Lib.hid hne2
        have hB1 := HM.out.lt
        clear hx c62 c47 hcl hsp HX hb1 hsf hbeg hstep hbd hnm hNc hN hV hm hNl hVl hadd hds hD hW hne hne2
        go_wp2_with (fail)
        refine (HG _).out.mono ?_
        rintro e w1 ⟨rfl, n1, rfl⟩
        go_wp2_with (fail)
        refine (HSp _).out.mono ?_
        rintro e w2 ⟨rfl, rfl⟩
        go_wp2_with (fail)
        refine (HA _).out.mono ?_
        rintro e w3 ⟨rfl, b3⟩
        have C3 := Lib.hid ((dr_below wr.heap.size wr n1).trans b3)
        clear b3
        have hs3 := C3.out.size
        go_wp2_with (first | (at_lookup; refine wpList_look_bool _ rfl _ _ _ rfl 9 4 Tryz.underlying9 Tryz.underlying30 Tryz.underlying4 (zeroBool _) w.heap.size n _ rfl (HM.out.below C3.out) N hNm rfl ?_) | (at_mapUpdate; refine wpList_store_bool _ rfl _ _ _ _ rfl 9 4 Tryz.underlying9 Tryz.underlying30 Tryz.underlying4 w.heap.size n _ rfl (HM.out.below C3.out) (by unfold maxLen; omega) N hNm true _ _ rfl rfl rfl rfl ?_))
        intro w4 hm4 hg4
        rw [HNL.out, names_add l _ (tellV (attT (s.data.toList.drop i)).1)] at hm4
        have HM4 := Lib.hid hm4
        have HO4 := Lib.hid ((own_below HO.out C3.out).kept hg4 HNE.out)
        have B4 := Lib.hid ((HB.out.trans (C3.out.mono HB.out.size)).grown hg4 (by have := HB.out.size; omega) (fun k hk => by cases hk; exact Nat.le_refl _))
        have hs4 := hg4.size
        clear hm4 hg4
        go_wp2_with (fail)
        refine (HD _ (HT.out.below B4.out).tab (HT.out.below B4.out).err).out.mono ?_
        rintro e w5 ⟨rfl, b5⟩
        have hs5 := b5.size
        go_wp2_with (fail)
        refine (HC _).out.mono ?_
        rintro e w6 ⟨rfl, b6⟩
        have hs6 := b6.size
        have B6 := Lib.hid (b5.trans (b6.mono b5.size))
        have HM6 := Lib.hid (HM4.out.below B6.out)
        have HO6 := Lib.hid (own_below HO4.out B6.out)
        have HB6 := Lib.hid (B4.out.trans (B6.out.mono B4.out.size))
        clear b5 b6
        go_wp2_with (at_builtin; refine wpList_append_own _ rfl _ _ 23 rfl (w.heap.size + 1) 29 i0 _ 2 32 Tryz.underlying23 hi0 hz0 hz1 hz2 rfl (by decide) _ l.length (cellsR l) rfl (HO6.out.alloc _) ⟨w6.heap.size, 0, none⟩ 1 1 [.string N, .string W] rfl rfl ?c1 ?c2 ?c3 ?c4 ?c5 ?_)
        case c1 => exact new_two _ _ _ _
        case c2 => intro u hu; simp at hu; rcases hu with rfl | rfl <;> rfl
        case c3 => simp [maxLen]; omega
        case c4 => omega
        case c5 => simp; omega
        intro v1 w7 hown7 hgr7 _
        have B7 := Lib.hid ((HB6.out.alloc HB6.out.size _).grown hgr7 (by simp; omega) (fun k hk => by have := (HO.out.lt k hk).1; omega))
        have HM7 := Lib.hid ((HM6.out.alloc _).kept hgr7 HNE2.out)
        rw [HNV.out, HWV.out, cellsR_add] at hown7
        have HO7 := Lib.hid hown7
        clear hown7 hgr7
        go_wp2
        go_step3
        refine ⟨rfl, ⟨m, n + 1, _, v1, rfl, by rw [List.length_append, List.length_singleton]; exact HO7.out, HM7.out, B7.out, hm2, by omega, by rw [List.length_append, List.length_singleton]; omega, HST.out⟩, ?_⟩
        simp [intOf]; omega
      · have hadd : addL l (anT (s.data.toList.drop i)) (attT (s.data.toList.drop i)).1 = l := by
          unfold addL
          rw [if_pos (by rw [← hNl]; exact hF)]
        rw [hadd] at hstep
        have HST := Lib.hid hstep
        clear hx c62 c47 hcl hsp HX hb1 hsf hbeg hstep hbd hnm hNc hN hV hm hNl hVl hadd
        go_wp2_with (fail)
        refine (HG _).out.mono ?_
        rintro e w1 ⟨rfl, n1, rfl⟩
        go_wp2_with (fail)
        refine (HSp _).out.mono ?_
        rintro e w2 ⟨rfl, rfl⟩
        go_wp2_with (fail)
        refine (HA _).out.mono ?_
        rintro e w3 ⟨rfl, b3⟩
        have C3 := Lib.hid ((dr_below wr.heap.size wr n1).trans b3)
        clear b3
        go_wp2_with (at_lookup; refine wpList_look_bool _ rfl _ _ _ rfl 9 4 Tryz.underlying9 Tryz.underlying30 Tryz.underlying4 (zeroBool _) w.heap.size n _ rfl (HM.out.below C3.out) N hNm rfl ?_)
        go_wp2
        go_step3
        refine ⟨rfl, ⟨m, n, l, lv, rfl, own_below HO.out C3.out, HM.out.below C3.out, HB.out.trans (C3.out.mono HB.out.size), hm2, by omega, by omega, HST.out⟩, ?_⟩
        simp [intOf]; omega
    · obtain rfl : i = s.size := by omega
      have HN : Hid (T = none) := Lib.hid (by
        have := HX.out
        rw [List.drop_eq_nil_of_le (by rw [← Lib.size_eq]; exact Nat.le_refl _)] at this
        exact runI_nil this)
      go_wp2
      simp only [Exit.jump]
      try simp only [Exit.inBlock, Exit.then]
      refine bodyPost_ret (results_tmp4 rfl _ _ _) rfl ?_
      exact ⟨_, _, _, _, _, _, _, rfl, isRows_none _, by rw [HV0.out HN.out, Lib.size_eq], HB.out⟩
  · intro hpass
    go_wp2
    go_step3
    rename_i K hK
    refine hK _ _ (hpass _ _ ?_)
    exact ⟨k, 0, [], .slice none 0 0, rfl, World.ownsRow_nil _ _ _ _, mapIs_made _ _ _ _, (Below.refl _ w).alloc (Nat.le_refl _) _, hk, Nat.zero_le _, Nat.zero_le _, HK.out⟩
end Go.Proofs.YtpdmnnfbdeiejaaGreatDoor
