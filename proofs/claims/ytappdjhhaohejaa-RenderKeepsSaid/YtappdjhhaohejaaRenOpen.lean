/-
  The program's page of layer 19: names opened, left, uncovered.
-/
import Derived.Test.YtappdjhhaohejaaRenPage
import Derived.Test.YtappdjhhaohejaaRenRef
import Derived.Deep.LoopGhost
namespace Go.Proofs.Ytappdjhhaohejaa
open Go.RowKit Go.Lib

set_option maxRecDepth 100000 in
set_option maxHeartbeats 4000000 in
theorem cover_any {w0 w : World} {pg : Nat} {g : Addr} {b : Nat} {v : Value} {l : List Txt} {k : Nat} {fl : FloP} {n : Nat} {R : Own} (hM : Made w0 w (PageS pg g b v l k fl n (cntN l) R)) (hR : Lies R) (nm : ByteArray) (hnm : nm.size ≤ 16777216) (hl : l.length ≤ 1000000) (hn : n ≤ 1000000) :
    Calls Try.prog 30 #[.pointer (some ⟨pg, 0, none⟩), .string nm] w fun e w' => e = .returned (.tuple #[]) ∧ ∃ v', Made w0 w' (PageS pg g b v' (l ++ [nm.data.toList]) k fl (n + 1) (cntN (l ++ [nm.data.toList])) R) := by
  have H := Lib.hid hM
  have HR := Lib.hid hR
  obtain ⟨c0, c1, c2, c3⟩ := page_cells hM
  obtain ⟨a, cap, hv, hlc, hm, -⟩ := strO_is hM.turn
  subst hv
  obtain ⟨m, hml⟩ : ∃ m, l.length = m := ⟨_, rfl⟩
  have HML := Lib.hid hml
  rw [hml] at hlc hl c1
  unfold maxLen at hm
  have HT := Lib.hid ((cntO_lies b n (cntN l)).sep ((floO_lies g fl).sep hR))
  obtain ⟨c, hc⟩ : ∃ c, cntN l nm.data.toList = c := ⟨_, rfl⟩
  have hcm : c ≤ m := by rw [← hc, ← hml]; exact cnt_le _ _
  have HC := Lib.hid hc
  have HLS := Lib.hid ((cellO_lies pg (pageC g (.slice a l.length cap) b k)).sep HT.out)
  have M1 := Lib.hid (hM.turn.below ((strO_lies _ l).sep HLS.out) ((Below.refl w.heap.size w).alloc (Nat.le_refl _) (.cells #[.string nm] 9)))
  rw [hml] at M1 HLS
  clear hM hR hml hc c0 c2 c3
  go_enter Try.func30, Try.ntmps30
  go_wp2_with (first
    | (at_builtin; refine wpList_append_strO rfl _ _ rfl (.slice a m cap) l [nm.data.toList] _ HLS.out rfl M1.out ⟨w.heap.size, 0, none⟩ 1 1 rfl rfl ?c1 ?c2 ?_)
    | fail)
  case c1 =>
    intro j hj
    have : j = 0 := by simpa using hj
    subst this
    rw [show ((⟨w.heap.size, 0, none⟩ : Addr).add 0) = ⟨w.heap.size, 0, none⟩ from rfl, Lib.cell_of_heap (heap_alloc_new w _)]
    rfl
  case c2 => rw [HML.out]; simp; omega
  intro v8 w8 m8
  have M8 := Lib.hid m8.turn
  clear m8 M1
  obtain ⟨a8, cap8, hv8, -⟩ := strO_is M8.out.turn
  have HV8 := Lib.hid hv8
  have HS8 := Lib.hid ((strO_lies v8 (l ++ [nm.data.toList])).sep HT.out)
  clear hv8
  go_wp2_with (first
    | (refine wpList_store_open rfl _ _ rfl M8.out HS8.out rfl _ _ _ _ rfl HV8.out ?_; intro w9 m9; have M9 := Lib.hid m9; obtain ⟨z0, z1, z2, z3⟩ := page_cells m9; clear m9 z0 z1 z3)
    | (at_lookup; refine wpList_look_cnt rfl _ _ rfl M9.out.third rfl nm rfl ?_; rw [HC.out])
    | (at_mapUpdate; refine wpList_store_cnt rfl _ _ _ rfl M9.out.third ((cellO_lies pg _).sep ((strO_lies _ _).sep ((floO_lies g fl).sep HR.out))) (by omega) rfl nm hnm rfl _ rfl (c + 1) (by omega) (by first | rfl | omega) ?_; intro w10 m10; have M10 := Lib.hid m10; clear m10))
  refine bodyPost_end (results_none rfl _ _ _) rfl ?_
  refine ⟨rfl, v8, (M10.out.imp (Imp.left _ (cntO_alike fun t => ?_))).back⟩
  unfold updN
  rw [cnt_app, cnt_one]
  by_cases ht : t = nm.data.toList
  · rw [if_pos ht, if_pos ht.symm, ht, HC.out]
  · rw [if_neg ht, if_neg (fun e => ht e.symm)]; rfl

theorem updN_take (l : List Txt) (i j : Nat) (hi : i < l.length) (hj : j = i + 1) (c : Nat) (hc : cntN (l.take j) l[i] = c) (t : Txt) : updN (cntN (l.take j)) l[i] (c - 1) t = cntN (l.take i) t := by
  subst hj
  rw [List.take_succ_eq_append_getElem hi] at hc ⊢
  rw [cnt_app, cnt_one, if_pos rfl] at hc
  unfold updN
  rw [cnt_app, cnt_one]
  by_cases ht : t = l[i]
  · rw [if_pos ht, ← hc, ht]; omega
  · rw [if_neg ht, if_neg (fun e => ht e.symm)]; rfl
set_option maxRecDepth 100000 in
set_option maxHeartbeats 8000000 in
theorem leave_any {w0 w : World} {pg : Nat} {g : Addr} {b : Nat} {v : Value} {l : List Txt} {k : Nat} {fl : FloP} {n : Nat} {R : Own} (hM : Made w0 w (PageS pg g b v l k fl n (cntN l) R)) (hR : Lies R) (nm : ByteArray) (hl : l.length ≤ 1000000) (hn : n ≤ 1000000)
    (hsz : ∀ x ∈ l, x.length ≤ 16777216) (k0 : Nat) (hk0 : lastN l nm.data.toList = some k0) :
    Calls Try.prog 35 #[.pointer (some ⟨pg, 0, none⟩), .string nm] w fun e w' => e = .returned (.tuple #[]) ∧ ∃ v', Made w0 w' (PageS pg g b v' (l.take k0) k fl (n + (l.length - k0)) (cntN (l.take k0)) R) := by
  have HR := Lib.hid hR
  have HSZ := Lib.hid hsz
  have HK := Lib.hid (last_max _ _ _ hk0)
  obtain ⟨hkl, hke⟩ := last_some _ _ _ hk0
  have HKE := Lib.hid hke
  have M0 := Lib.hid (show Made w0 w (PageS pg g b v (l.take l.length) k fl (n + (l.length - l.length)) (cntN (l.take l.length)) R) by rw [List.take_length, Nat.sub_self, Nat.add_zero]; exact hM)
  obtain ⟨m, hml⟩ : ∃ m, l.length = m := ⟨_, rfl⟩
  have HML := Lib.hid hml
  rw [hml] at M0 hl hkl ⊢
  clear hM hR hsz hk0 hke hml
  go_enter Try.func35, Try.ntmps35
  go_wp2
  go_loopg [4, 5] m (fun gg _ _ wr => ∃ (j : Nat) (v' : Value), j ≤ gg ∧ k0 < j ∧ j ≤ m ∧ Hid (Made w0 wr (PageS pg g b v' (l.take j) k fl (n + (m - j)) (cntN (l.take j)) R)))
  case atStart => exact ⟨m, v, Nat.le_refl _, hkl, Nat.le_refl _, M0⟩
  case round =>
    obtain ⟨j, v', hjg, hkj, hjm, M⟩ := hrel
    clear M0
    obtain ⟨i, hij⟩ : ∃ i : Nat, j = i + 1 := ⟨j - 1, by omega⟩
    have hil : i < l.length := by rw [HML.out]; omega
    have hjl : (l.take j).length = j := by rw [List.length_take, HML.out]; omega
    obtain ⟨c0, c1, c2, c3⟩ := page_cells M.out
    obtain ⟨a, cap, hv, hlc, hm, hce⟩ := strO_is M.out.turn
    subst hv
    obtain ⟨x, rfl, xc⟩ := hce i (by rw [hjl]; omega)
    rw [hjl] at hlc c1 M
    rw [List.getElem_take] at xc
    have hls := HSZ.out _ (List.getElem_mem hil)
    have hcn : ∃ c, cntN (l.take j) l[i] = c ∧ 1 ≤ c ∧ c ≤ j := by
      refine ⟨_, rfl, ?_, by have := cnt_le l[i] (l.take j); rw [hjl] at this; exact this⟩
      rw [hij, List.take_succ_eq_append_getElem hil, cnt_app, cnt_one, if_pos rfl]; omega
    obtain ⟨c, hc, hc1, hcj⟩ := hcn
    have HUP := Lib.hid (updN_take l i j hil hij c hc)
    have HC := hc
    obtain ⟨S, hS⟩ : ∃ S : ByteArray, (⟨l[i].toArray⟩ : ByteArray) = S := ⟨_, rfl⟩
    have hS2 : S.data.toList = l[i] := by rw [← hS, List.toList_toArray]
    have hSs : S.size ≤ 16777216 := by rw [Lib.size_eq, hS2]; exact hls
    have HBQ := txt_beqB l[i] nm
    rw [hS] at HBQ xc
    rw [← hS2] at HC HUP
    have HC := Lib.hid HC
    have HT := Lib.hid ((strO_lies (.slice (some x) j cap) (l.take j)).sep ((cntO_lies b (n + (m - j)) (cntN (l.take j))).sep ((floO_lies g fl).sep HR.out)))
    have e1 : (j : Int) - 1 = (i : Int) := by omega
    have e2 : (c : Int) - 1 = ((c - 1 : Nat) : Int) := by omega
    unfold maxLen at hm
    have hic : i ≤ cap := by omega
    have HTI := Lib.hid (show (l.take j).take i = l.take i by rw [List.take_take, Nat.min_eq_left (by omega)])
    obtain ⟨B, hB⟩ : ∃ B, decide (l[i] = nm.data.toList) = B := ⟨_, rfl⟩
    rw [hB] at HBQ
    have HB := Lib.hid hB
    have HIM := Lib.hid (show i ≤ (l.take j).length by rw [hjl]; omega)
    clear hjl hce hls hc hS hS2 hB c0 c2 c3
    cases B
    · go_wp2_with (first
        | (refine wpList_store_open rfl _ _ rfl M.out HT.out rfl (some x) i cap (.slice (some x) i cap) (by first | rfl | go_num) rfl ?_; intro w9 m9; have M9 := Lib.hid (strO_cut m9.turn HIM.out).turn; rw [HTI.out] at M9; obtain ⟨z0, z1, z2, z3⟩ := page_cells M9.out; clear m9 z0 z1 z3)
        | (at_lookup; refine wpList_look_cnt rfl _ _ rfl M9.out.third rfl S rfl ?_; rw [HC.out])
        | (at_mapUpdate; refine wpList_store_cnt rfl _ _ _ rfl M9.out.third ((cellO_lies pg _).sep ((strO_lies _ _).sep ((floO_lies g fl).sep HR.out))) (by omega) rfl S hSs rfl _ rfl (c - 1) (by omega) (by first | rfl | omega) ?_; intro w10 m10; have M10 := Lib.hid (m10.imp (Imp.left _ (cntO_alike HUP.out))).back; clear m10))
      go_roundg i
      case measure => omega
      case rel =>
        have hki : k0 ≠ i := fun e => by
          subst e
          exact absurd HKE.out (of_decide_eq_false HB.out)
        refine ⟨i, .slice (some x) i cap, Nat.le_refl _, by omega, by omega, ?_⟩
        have e3 : n + (m - j) + 1 = n + (m - i) := by omega
        rw [e3] at M10
        exact M10
    · go_wp2_with (first
        | (refine wpList_store_open rfl _ _ rfl M.out HT.out rfl (some x) i cap (.slice (some x) i cap) (by first | rfl | go_num) rfl ?_; intro w9 m9; have M9 := Lib.hid (strO_cut m9.turn HIM.out).turn; rw [HTI.out] at M9; obtain ⟨z0, z1, z2, z3⟩ := page_cells M9.out; clear m9 z0 z1 z3)
        | (at_lookup; refine wpList_look_cnt rfl _ _ rfl M9.out.third rfl S rfl ?_; rw [HC.out])
        | (at_mapUpdate; refine wpList_store_cnt rfl _ _ _ rfl M9.out.third ((cellO_lies pg _).sep ((strO_lies _ _).sep ((floO_lies g fl).sep HR.out))) (by omega) rfl S hSs rfl _ rfl (c - 1) (by omega) (by first | rfl | omega) ?_; intro w10 m10; have M10 := Lib.hid (m10.imp (Imp.left _ (cntO_alike HUP.out))).back; clear m10))
      refine bodyPost_ret (results_none rfl _ _ _) rfl ?_
      have hki : i = k0 := by
        rcases Nat.lt_or_eq_of_le (show k0 ≤ i by omega) with h | h
        · exact absurd (of_decide_eq_true HB.out) (HK.out i hil h)
        · exact h.symm
      subst hki
      have e3 : n + (m - j) + 1 = n + (m - i) := by omega
      rw [e3] at M10
      exact ⟨rfl, _, M10.out⟩

/-! uncover -/
/-- texts of a row rewritten from a place on -/
theorem strO_rowD {w0 w : World} {ga m cap : Nat} {l : List Txt} {S : Own} (h : Made w0 w (Sep (StrO (.slice (some ⟨ga, 0, none⟩) m cap) l) S)) (hS : Lies S) (j : Nat) (hj : j ≤ l.length) :
    ∃ R, RowD w ga (strsV (l.take j)) (l.drop j) R ∧ RowD w ga [] [] (strsV l ++ R) ∧ ∀ w' E, RowD w' ga (strsV (l.take j)) E R → E.length = l.length - j → w.grownBy w' (some ga) → Made w0 w' (Sep (StrO (.slice (some ⟨ga, 0, none⟩) m cap) (l.take j ++ E)) S) := by
  obtain ⟨F, ⟨h1, hF⟩, -, hk⟩ := h.first
  rcases h1.2 with ⟨e, -⟩ | ⟨g', cap', cur, e, hb, hg, hn, hm, hs, ht⟩
  · cases e
  · injection e with e1 e2 e3
    injection e1 with e1
    injection e1 with e1 _ _
    subst e1; subst e2; subst e3
    rw [Nat.mul_one] at ht hs
    have hd : strsV l = strsV (l.take j) ++ strsV (l.drop j) := by rw [strsV_app, List.take_append_drop]
    have hcur : cur.toList = strsV l ++ cur.toList.drop l.length := by rw [← ht, List.take_append_drop]
    have hcl : cur.toList.length = cap := by rw [Array.length_toList, hs]
    refine ⟨cur.toList.drop l.length, ⟨?_⟩, ⟨?_⟩, fun w' E hr hE hgr => ?_⟩
    · rw [hg]
      congr 2
      apply Array.ext'
      rw [List.toList_toArray, ← hd]; exact hcur
    · rw [hg]
      congr 2
      apply Array.ext'
      rw [List.toList_toArray]; exact hcur
    · have hlen : (l.take j ++ E).length = l.length := by rw [List.length_append, List.length_take, hE]; omega
      refine hk w' (StrO _ (l.take j ++ E)) F hS ⟨⟨by rw [strsV_len, Nat.mul_one], .inr ⟨ga, cap, _, by rw [hlen], Nat.zero_le _, hr.heap, by rw [hlen]; exact hn, hm, ?_, ?_⟩⟩, hF⟩ (Moves.of_grown hgr ((hF ga).2 rfl))
      · have h5 := congrArg List.length hcur
        rw [List.length_append, strsV_len, hcl] at h5
        rw [List.size_toArray, List.length_append, List.length_append, strsV_len, strsV_len, List.length_take, hE, h5]; omega
      · rw [List.toList_toArray, Nat.mul_one, strsV_app, hlen, List.take_append_of_le_length (by rw [strsV_len, hlen]; exact Nat.le_refl _), List.take_of_length_le (by rw [strsV_len, hlen]; exact Nat.le_refl _)]
/-- how many, while heads are counted down -/
def cntJ (l : List Txt) (j : Nat) : Txt → Nat := fun t => if t = headL then cntN (l.take j) headL else cntN l t
theorem cntJ_head (l : List Txt) (j : Nat) : cntJ l j headL = cntN (l.take j) headL := if_pos rfl
theorem cntJ_all (l : List Txt) (t : Txt) : cntN l t = cntJ l l.length t := by
  unfold cntJ
  rw [List.take_length]
  by_cases h : t = headL
  · rw [if_pos h, h]
  · rw [if_neg h]
theorem cntJ_done (l : List Txt) (j : Nat) (h : cntN (l.take j) headL = 0) (t : Txt) : cntJ l j t = cntN (l.filter fun x => decide (x ≠ headL)) t := by
  unfold cntJ
  rw [cnt_filter, h]
theorem cntJ_same (l : List Txt) (i : Nat) (hi : i < l.length) (h : l[i] ≠ headL) (t : Txt) : cntJ l (i + 1) t = cntJ l i t := by
  unfold cntJ
  rw [List.take_succ_eq_append_getElem hi, cnt_app, cnt_one, if_neg h]; rfl
theorem cntJ_less (l : List Txt) (i : Nat) (hi : i < l.length) (h : l[i] = headL) (c : Nat) (hc : cntN (l.take (i + 1)) headL = c) (t : Txt) : updN (cntJ l (i + 1)) headL (c - 1) t = cntJ l i t := by
  rw [List.take_succ_eq_append_getElem hi, cnt_app, cnt_one, if_pos h] at hc
  unfold updN cntJ
  by_cases ht : t = headL
  · rw [if_pos ht, if_pos ht]; omega
  · rw [if_neg ht, if_neg ht, if_neg ht]
theorem filter_behind (l : List Txt) (j : Nat) (h : cntN (l.take j) headL = 0) : l.take j ++ (l.drop j).filter (fun q => !headB q) = l.filter fun x => decide (x ≠ headL) := by
  have e : (fun x : Txt => decide (x ≠ headL)) = fun q => !headB q := by
    funext x
    unfold headB
    by_cases hx : x = headL
    · rw [decide_eq_false (fun h => h hx), decide_eq_true hx]; rfl
    · rw [decide_eq_true hx, decide_eq_false hx]; rfl
  conv => rhs; rw [e, ← List.take_append_drop j l, List.filter_append]
  congr 1
  refine (List.filter_eq_self.2 fun q hq => ?_).symm
  have : q ≠ headL := fun e => (cnt_zero headL _).1 h (e ▸ hq)
  unfold headB
  rw [decide_eq_false this]; rfl
theorem headS : (⟨#[104, 101, 97, 100]⟩ : ByteArray).data.toList = headL := rfl
/-- what lies behind a place, struck and cut -/
theorem strO_struck {w0 w : World} {ga m cap j mm : Nat} {l E : List Txt} {S : Own} (h : Made w0 w (Sep (StrO (.slice (some ⟨ga, 0, none⟩) m cap) (l.take j ++ E)) S)) (hj : j ≤ l.length) (hE : E.length = l.length - j) (hm : mm ≤ l.length - j) (h2 : E.take mm = (l.drop j).filter fun q => !headB q) (h0 : cntN (l.take j) headL = 0) :
    Made w0 w (Sep (StrO (.slice (some ⟨ga, 0, none⟩) (j + mm) cap) (l.filter fun x => decide (x ≠ headL))) S) := by
  have h1 := strO_cut (m := j + mm) h (by rw [List.length_append, List.length_take]; omega)
  have e : (l.take j ++ E).take (j + mm) = l.filter fun x => decide (x ≠ headL) := by
    rw [← filter_behind l j h0, ← h2, List.take_append, List.take_of_length_le (by rw [List.length_take]; omega), List.length_take, Nat.min_eq_left hj, Nat.add_sub_cancel_left]
  rwa [e] at h1

set_option maxRecDepth 100000 in
set_option maxHeartbeats 16000000 in
theorem uncover_any {w0 w : World} {pg : Nat} {g : Addr} {b : Nat} {v : Value} {l : List Txt} {k : Nat} {fl : FloP} {n : Nat} {R : Own} (hM : Made w0 w (PageS pg g b v l k fl n (cntN l) R)) (hR : Lies R) (hl : l.length ≤ 1000000) (hn : n ≤ 1000000) :
    Calls Try.prog 29 #[.pointer (some ⟨pg, 0, none⟩)] w fun e w' => e = .returned (.tuple #[]) ∧ ∃ v' n', n' ≤ n + cntN l headL ∧ Made w0 w' (PageS pg g b v' (l.filter fun x => decide (x ≠ headL)) k fl n' (cntN (l.filter fun x => decide (x ≠ headL))) R) := by
  have HR := Lib.hid hR
  have M0 := Lib.hid (show Made w0 w (PageS pg g b v l k fl n (cntJ l l.length) R) from (hM.third.imp (Imp.left _ (cntO_alike (cntJ_all l)))).back)
  obtain ⟨c0, c1, c2, c3⟩ := page_cells hM
  obtain ⟨a, cap, hv, hlc, hm, hce⟩ := strO_is hM.turn
  subst hv
  have HCE := Lib.hid hce
  have HCT := Lib.hid (show ∀ j, cntN (l.take j) headL ≤ cntN l headL from fun j => by
    conv => rhs; rw [← List.take_append_drop j l, cnt_app]
    omega)
  have HSN := Lib.hid (show (Value.slice a l.length cap = .slice none 0 0 ∧ l.length = 0) ∨ ∃ ga, a = some ⟨ga, 0, none⟩ from by
    rcases (strO_row hM.turn).2 with ⟨e, e0⟩ | ⟨ga, cap', cur, e, -⟩
    · exact .inl ⟨e, e0⟩
    · injection e with e1 e2 e3
      exact .inr ⟨ga, e1⟩)
  obtain ⟨LF, hLF⟩ : ∃ LF, (l.filter fun x => decide (x ≠ headL)) = LF := ⟨_, rfl⟩
  have HLF := Lib.hid hLF
  rw [hLF]
  clear hLF
  obtain ⟨m, hml⟩ : ∃ m, l.length = m := ⟨_, rfl⟩
  have HML := Lib.hid hml
  obtain ⟨C, hC⟩ : ∃ C, cntN l headL = C := ⟨_, rfl⟩
  have hCm : C ≤ m := by rw [← hC, ← hml]; exact cnt_le _ _
  have HCC := Lib.hid hC
  rw [hml] at hlc hl c1 M0 HSN
  rw [hC] at HCT ⊢
  unfold maxLen at hm
  have HCJ := Lib.hid (show cntN (l.take m) headL = C by rw [← hml, List.take_length]; exact hC)
  clear hM hR hml hC hce c0 c2 c3
  go_enter Try.func29, Try.ntmps29
  go_wp2
  clear c1
  go_loopw [2] (fun v2 wr => ∃ (j q : Nat), v2 = .int .i64 (j : Int) ∧ j ≤ m ∧ Hid (q + cntN (l.take j) headL ≤ n + C) ∧ Hid (Made w0 wr (PageS pg g b (.slice a m cap) l k fl q (cntJ l j) R))) (fun v _ => (intOf v).toNat)
  case atStart => exact ⟨m, n, rfl, Nat.le_refl _, Lib.hid (by rw [HCJ.out]; exact Nat.le_refl _), M0⟩
  case round =>
    obtain ⟨j, q, rfl, hj, HQ, M⟩ := hrel
    clear M0 HCJ
    obtain ⟨c0, c1, c2, c3⟩ := page_cells M.out
    obtain ⟨c, hc⟩ : ∃ c, cntN (l.take j) headL = c := ⟨_, rfl⟩
    have hqc : q + c ≤ n + C := by rw [← hc]; exact HQ.out
    have hcC : c ≤ C := by rw [← hc]; exact HCT.out j
    have HC := Lib.hid hc
    have HC2 := Lib.hid (show cntJ l j (⟨#[104, 101, 97, 100]⟩ : ByteArray).data.toList = c by rw [headS, cntJ_head]; exact hc)
    by_cases h0 : c = 0
    · subst h0
      have HIMP := Lib.hid (fun v => show Imp (PageS pg g b v LF k fl q (cntJ l j) R) (PageS pg g b v LF k fl q (cntN LF) R) from
        Imp.right _ (Imp.right _ (Imp.left _ (cntO_alike (by rw [← HLF.out]; exact cntJ_done l j HC.out)))))
      have HT := Lib.hid ((cntO_lies b q (cntJ l j)).sep ((floO_lies g fl).sep HR.out))
      have hq : q ≤ n + C := by omega
      rcases HSN.out with ⟨e, e0⟩ | ⟨ga, rfl⟩
      · injection e with e1 e2 e3
        subst e1; subst e2; subst e3
        obtain rfl : j = 0 := by omega
        have HL0 := Lib.hid (List.eq_nil_of_length_eq_zero HML.out)
        have HD := fun w => Lib.hid (deleteHead_none w (.func (.func 42) #[] #[]))
        clear c0 c3 hqc hc
        go_wp2_with (first
          | (at_lookup; refine wpList_look_cnt rfl _ _ rfl M.out.third rfl ⟨#[104, 101, 97, 100]⟩ rfl ?_; rw [HC2.out])
          | (go_at_call 41; refine (HD _).out.mono ?_; rintro e w5 ⟨rfl, hw5⟩; obtain rfl := hw5.symm)
          | (refine wpList_store_open rfl _ _ rfl M.out ((strO_lies _ l).sep HT.out) rfl none 0 0 (.slice none 0 0) (by first | rfl | go_num) rfl ?_; intro w9 m9; have M9 := Lib.hid m9; clear m9))
        refine bodyPost_end (results_none rfl _ _ _) (by rfl) ?_
        refine ⟨rfl, .slice none 0 0, q, hq, ?_⟩
        refine Made.imp ?_ (HIMP.out _)
        have h9 := M9.out
        have hlf : LF = [] := by rw [← HLF.out, HL0.out]; rfl
        rw [hlf]
        rw [HL0.out] at h9
        rw [HL0.out]
        exact h9
      · obtain ⟨Rr, hr1, hr2, hr3⟩ := strO_rowD M.out.turn ((cellO_lies pg _).sep HT.out) j (by rw [HML.out]; exact hj)
        have HR1 := Lib.hid hr1
        have HR2 := Lib.hid hr2
        have HR3 := Lib.hid hr3
        have hjm : j ≤ cap := by omega
        have hdl : (l.drop j).length = m - j := by rw [List.length_drop, HML.out]
        have hjl : (strsV (l.take j)).length = j := by rw [strsV_len, List.length_take, HML.out]; omega
        have HDL := Lib.hid hdl
        clear c0 c3 hqc hc hr1 hr2 hr3 hdl
        by_cases he0 : cap = j
        · subst he0
          obtain rfl : m = cap := by omega
          have HD := fun w h => Lib.hid (deleteHead_any ga 0 0 0 [] [] (strsV l ++ Rr) w h rfl rfl (Nat.le_refl _) (by omega))
          clear hjl hjm
          go_wp2_with (first
            | (at_lookup; refine wpList_look_cnt rfl _ _ rfl M.out.third rfl ⟨#[104, 101, 97, 100]⟩ rfl ?_; rw [HC2.out])
            | fail)
          refine (HD _ HR2.out).out.mono ?_
          rintro e5 w5 ⟨E, mm, rfl, hr, hmm, hE, hEt, hgr⟩
          obtain rfl : mm = 0 := by omega
          obtain rfl : E = [] := List.eq_nil_of_length_eq_zero hE
          have htk : l.take m = l := List.take_of_length_le (by rw [HML.out]; exact Nat.le_refl _)
          have hdr : l.drop m = [] := List.drop_eq_nil_of_le (by rw [HML.out]; exact Nat.le_refl _)
          have hr5 : RowD w5 ga (strsV (l.take m)) [] Rr := ⟨by rw [hr.heap, htk]; simp [strsV]⟩
          have M5 := Lib.hid (strO_struck (mm := 0) (HR3.out w5 [] hr5 (by rw [HML.out, Nat.sub_self]; rfl) hgr) (by rw [HML.out]; exact hj) (by rw [HML.out, Nat.sub_self]; rfl) (Nat.zero_le _) (by rw [hdr]; rfl) HC.out).turn
          rw [HLF.out, Nat.add_zero] at M5
          obtain ⟨c0, c1, c2, c3⟩ := page_cells M5.out
          clear c0 c2 c3 hr hE hEt hgr hr5 htk hdr
          go_wp2_with (refine wpList_store_open rfl _ _ rfl M5.out ((strO_lies _ LF).sep HT.out) rfl (some ⟨ga, 0, none⟩) m m (.slice (some ⟨ga, 0, none⟩) m m) (by first | rfl | go_num) rfl ?_; intro w9 m9; have M9 := Lib.hid m9; clear m9)
          refine bodyPost_end (results_none rfl _ _ _) (by rfl) ?_
          exact ⟨rfl, _, q, hq, M9.out.imp (HIMP.out _)⟩
        · have HD := fun w h => Lib.hid (deleteHead_any ga j (cap - j) (m - j) (strsV (l.take j)) (l.drop j) Rr w h hjl HDL.out (by omega) (by omega))
          clear hjl
          go_wp2_with (first
            | (at_lookup; refine wpList_look_cnt rfl _ _ rfl M.out.third rfl ⟨#[104, 101, 97, 100]⟩ rfl ?_; rw [HC2.out])
            | fail)
          refine (HD _ HR1.out).out.mono ?_
          rintro e5 w5 ⟨E, mm, rfl, hr, hmm, hE, hEt, hgr⟩
          have M5 := Lib.hid (strO_struck (HR3.out w5 E hr (by rw [hE, HML.out]) hgr) (by rw [HML.out]; exact hj) (by rw [hE, HML.out]) (by rw [HML.out]; exact hmm) hEt HC.out).turn
          rw [HLF.out] at M5
          obtain ⟨c0, c1, c2, c3⟩ := page_cells M5.out
          clear c0 c2 c3 hr hE hEt hgr
          have hjc : j + mm ≤ cap := by omega
          go_wp2_with (refine wpList_store_open rfl _ _ rfl M5.out ((strO_lies _ LF).sep HT.out) rfl (some ⟨ga, 0, none⟩) (j + mm) cap (.slice (some ⟨ga, 0, none⟩) (j + mm) cap) (by first | rfl | go_num) rfl ?_; intro w9 m9; have M9 := Lib.hid m9; clear m9)
          refine bodyPost_end (results_none rfl _ _ _) (by rfl) ?_
          exact ⟨rfl, _, q, hq, M9.out.imp (HIMP.out _)⟩
    · have hj0 : j ≠ 0 := fun e => h0 (by rw [← hc, e]; rfl)
      have hd : decide ((0 : Int) < (c : Int)) = true := decide_eq_true (by omega)
      have hd2 : decide (0 < c) = true := decide_eq_true (by omega)
      obtain ⟨i, hij⟩ : ∃ i : Nat, j = i + 1 := ⟨j - 1, by omega⟩
      have hil : i < l.length := by rw [HML.out]; omega
      obtain ⟨a', cap', hv', -, -, hce⟩ := strO_is M.out.turn
      injection hv' with ea em ec
      subst ea; subst ec
      obtain ⟨x, rfl, xc⟩ := hce i hil
      have hbq := txt_beqB l[i] ⟨#[104, 101, 97, 100]⟩
      rw [headS, show (⟨#[104, 101, 97, 100]⟩ : ByteArray).toList = [104, 101, 97, 100] by rw [ByteArray.toList_eq]] at hbq
      obtain ⟨S, hS⟩ : ∃ S : ByteArray, (⟨l[i].toArray⟩ : ByteArray) = S := ⟨_, rfl⟩
      rw [hS] at hbq xc
      have hbq2 := hbq
      have e1 : (j : Int) - 1 = (i : Int) := by omega
      have e2 : (c : Int) - 1 = ((c - 1 : Nat) : Int) := by omega
      have hct : cntN (l.take (i + 1)) headL = c := by rw [← hij]; exact hc
      have hq0 : q ≤ n + C := by omega
      clear hce hS c0 c3 hbq hqc hc em
      by_cases hx : l[i] = headL
      · rw [decide_eq_true hx] at hbq2
        have HUP := Lib.hid (cntJ_less l i hil hx c hct)
        rw [← hij] at HUP
        have HQ2 : Hid (q + 1 + cntN (l.take i) headL ≤ n + C) := Lib.hid (by
          have := HQ.out
          rw [hij, List.take_succ_eq_append_getElem hil, cnt_app, cnt_one, if_pos hx] at this
          omega)
        clear hx hct
        go_wp2_with (first
          | (at_lookup; refine wpList_look_cnt rfl _ _ rfl M.out.third rfl ⟨#[104, 101, 97, 100]⟩ rfl ?_; rw [HC2.out])
          | (at_mapUpdate; refine wpList_store_cnt rfl _ _ _ rfl M.out.third ((cellO_lies pg _).sep ((strO_lies _ _).sep ((floO_lies g fl).sep HR.out))) (by omega) rfl ⟨#[104, 101, 97, 100]⟩ (by decide) rfl _ rfl (c - 1) (by omega) (by first | rfl | omega) ?_; intro w10 m10; have M10 := Lib.hid (m10.imp (Imp.left _ (cntO_alike HUP.out))).back; clear m10))
        go_roundw
        case rel => exact ⟨i, by first | rfl | trivial | go_num, by omega, q + 1, HQ2, M10⟩
        case measure => simp [intOf]; omega
      · rw [decide_eq_false hx] at hbq2
        have HUP := Lib.hid (cntJ_same l i hil hx)
        rw [← hij] at HUP
        have M10 := Lib.hid (M.out.third.imp (Imp.left _ (cntO_alike HUP.out))).back
        have HQ2 : Hid (q + cntN (l.take i) headL ≤ n + C) := Lib.hid (by
          have := HQ.out
          rw [hij, List.take_succ_eq_append_getElem hil, cnt_app, cnt_one, if_neg hx] at this
          omega)
        clear hx hct
        go_wp2_with (at_lookup; refine wpList_look_cnt rfl _ _ rfl M.out.third rfl ⟨#[104, 101, 97, 100]⟩ rfl ?_; rw [HC2.out])
        go_roundw
        case rel => exact ⟨i, q, by first | rfl | trivial | go_num, by omega, HQ2, M10⟩
        case measure => simp [intOf]; omega
end Go.Proofs.Ytappdjhhaohejaa
