/-
  The program's page of layer 19, in blocks of its own: its struct, the row of names that are open, the map of how many, the flow: what its methods do.
-/
import Derived.Test.YtappdjhhaohejaaRenRow
import Derived.Test.YtappdjhhaohejaaRenMap
import Derived.Test.YtappdjhhaohejaaFloO
import Derived.Test.YtappdjhhaohejaaFloCode
import Derived.Test.YtappdjhhaohejaaKndCode
import Derived.Test.YtappdjhhaohejaaRec
namespace Go.Proofs.Ytappdjhhaohejaa
open Go.RowKit Go.Lib

/-! how often a name stands in a list -/
def cntN : List Txt → Txt → Nat
  | [], _ => 0
  | x :: l, t => (if x = t then 1 else 0) + cntN l t
theorem cnt_app (t : Txt) (m : List Txt) : ∀ l : List Txt, cntN (l ++ m) t = cntN l t + cntN m t
  | [] => by show cntN m t = 0 + cntN m t; omega
  | x :: l => by
    show (if x = t then 1 else 0) + cntN (l ++ m) t = (if x = t then 1 else 0) + cntN l t + cntN m t
    rw [cnt_app t m l]; omega
theorem cnt_one (x t : Txt) : cntN [x] t = if x = t then 1 else 0 := by show (if x = t then 1 else 0) + 0 = _; omega
theorem cnt_le (t : Txt) : ∀ l : List Txt, cntN l t ≤ l.length
  | [] => Nat.le_refl _
  | x :: l => by
    have := cnt_le t l
    show (if x = t then 1 else 0) + cntN l t ≤ _
    rw [List.length_cons]
    split <;> omega
theorem cnt_zero (t : Txt) : ∀ l : List Txt, cntN l t = 0 ↔ t ∉ l
  | [] => ⟨fun _ h => (by cases h), fun _ => rfl⟩
  | x :: l => by
    have ih := cnt_zero t l
    show (if x = t then 1 else 0) + cntN l t = 0 ↔ _
    rw [List.mem_cons]
    by_cases hx : x = t
    · rw [if_pos hx]
      exact ⟨fun h => by omega, fun h => absurd (.inl hx.symm) h⟩
    · rw [if_neg hx, Nat.zero_add, ih]
      exact ⟨fun h e => e.elim (fun e => hx e.symm) h, fun h e => h (.inr e)⟩
theorem cnt_filter (nm t : Txt) : ∀ l : List Txt, cntN (l.filter fun x => decide (x ≠ nm)) t = if t = nm then 0 else cntN l t
  | [] => by split <;> rfl
  | x :: l => by
    have ih := cnt_filter nm t l
    rw [List.filter_cons]
    by_cases hx : x = nm
    · rw [if_neg (by simpa using hx), ih]
      by_cases ht : t = nm
      · rw [if_pos ht, if_pos ht]
      · rw [if_neg ht, if_neg ht]
        show _ = (if x = t then 1 else 0) + cntN l t
        rw [if_neg (fun e => ht (by rw [← e, hx]))]; omega
    · rw [if_pos (by simpa using hx)]
      show (if x = t then 1 else 0) + cntN _ t = _
      rw [ih]
      by_cases ht : t = nm
      · rw [if_pos ht, if_pos ht, if_neg (fun e => hx (by rw [e, ht]))]
      · rw [if_neg ht, if_neg ht]; rfl
theorem last_max (nm : Txt) : ∀ (l : List Txt) (k : Nat), lastN l nm = some k → ∀ j (h : j < l.length), k < j → l[j] ≠ nm
  | [], _, h => by cases h
  | x :: l, k, h => by
    intro j hj hkj
    obtain ⟨i, rfl⟩ : ∃ i, j = i + 1 := ⟨j - 1, by omega⟩
    rw [List.getElem_cons_succ]
    have hi : i < l.length := by simpa using hj
    unfold lastN at h
    cases h1 : lastN l nm with
    | some q =>
      rw [h1] at h
      have : q + 1 = k := by simpa using h
      exact last_max nm l q h1 i hi (by omega)
    | none =>
      intro e
      exact (last_mem nm l).1 h1 (e ▸ List.getElem_mem hi)

/-! the page -/
def pageC (g : Addr) (v : Value) (b : Nat) (k : Nat) : Obj := .cells #[.pointer (some g), v, .map (some b), .int .i64 (k : Int)] 46 (0, 0)
def PageS (pg : Nat) (g : Addr) (b : Nat) (v : Value) (l : List Txt) (k : Nat) (fl : FloP) (n : Nat) (f : Txt → Nat) (R : Own) : Own :=
  Sep (CellO pg (pageC g v b k)) (Sep (StrO v l) (Sep (CntO b n f) (Sep (FloO g fl) R)))
theorem Made.fourth {w0 w : World} {A B C D R : Own} (h : Made w0 w (Sep A (Sep B (Sep C (Sep D R))))) : Made w0 w (Sep D (Sep A (Sep B (Sep C R)))) :=
  (h.imp (Imp.right A (Imp.right B (Imp.turn C D R)))).third
theorem Made.fourthB {w0 w : World} {A B C D R : Own} (h : Made w0 w (Sep D (Sep A (Sep B (Sep C R))))) : Made w0 w (Sep A (Sep B (Sep C (Sep D R)))) :=
  h.back.imp (Imp.right A (Imp.right B (Imp.turn D C R)))
theorem Imp.left {S S' : Own} (T : Own) (h : Imp S S') : Imp (Sep S T) (Sep S' T) := by
  rintro w F ⟨F1, F2, h1, h2, hd, hF⟩
  exact ⟨F1, F2, h w F1 h1, h2, hd, hF⟩
theorem cellO_set {w0 w : World} {pg : Nat} {cs : Array Value} {T : TypeId} {S : Own} (h : Made w0 w (Sep (CellO pg (.cells cs T (0, 0))) S)) (hS : Lies S) (i : Nat) (x : Value) :
    Made w0 (w.setCell ⟨pg, i, none⟩ x) (Sep (CellO pg (.cells (cs.setIfInBounds i x) T (0, 0))) S) := by
  obtain ⟨F, hF, -, hk⟩ := h.first
  exact hk _ (CellO pg (.cells (cs.setIfInBounds i x) T (0, 0))) F hS ⟨Go.heap_setCell_same w pg i cs T x hF.1, hF.2⟩ (Moves.of_grown (grown_setCell w pg i x) ((hF.2 pg).2 rfl))
/-- a shorter piece of a row -/
theorem strO_cut {w0 w : World} {a : Option Addr} {n c m : Nat} {l : List Txt} {S : Own} (h : Made w0 w (Sep (StrO (.slice a n c) l) S)) (hm : m ≤ l.length) : Made w0 w (Sep (StrO (.slice a m c) (l.take m)) S) := by
  refine h.imp ?_
  rintro w F ⟨F1, F2, ⟨h1, hF1⟩, h2, hd, hF⟩
  refine ⟨F1, F2, ⟨⟨by rw [strsV_len, Nat.mul_one], ?_⟩, fun k => ?_⟩, h2, hd, hF⟩
  · rcases h1.2 with ⟨e, e0⟩ | ⟨g, cap, cur, e, hb, hg, hn, hmx, hs, ht⟩
    · injection e with e1 e2 e3
      subst e1; subst e3
      obtain rfl : m = 0 := by omega
      exact .inl ⟨rfl, by simp⟩
    · injection e with e1 e2 e3
      subst e1; subst e3
      have hl : (l.take m).length = m := by rw [List.length_take]; omega
      refine .inr ⟨g, c, cur, by rw [hl], hb, hg, by omega, hmx, hs, ?_⟩
      have e4 : strsV (l.take m) = (strsV l).take m := by unfold strsV; rw [List.map_take]
      rw [hl, e4, ← ht, Nat.mul_one, Nat.mul_one, List.take_take, Nat.min_eq_left hm]
  · rw [hF1 k]
    cases a <;> rfl
section
variable {w0 w : World} {pg : Nat} {g : Addr} {b : Nat} {v : Value} {l : List Txt} {k : Nat} {fl : FloP} {n : Nat} {f : Txt → Nat} {R S : Own}
theorem page_lies (pg : Nat) (g : Addr) (b : Nat) (v : Value) (l : List Txt) (k : Nat) (fl : FloP) (n : Nat) (f : Txt → Nat) (hR : Lies R) : Lies (PageS pg g b v l k fl n f R) :=
  (cellO_lies pg _).sep ((strO_lies v l).sep ((cntO_lies b n f).sep ((floO_lies g fl).sep hR)))
theorem page_cells (h : Made w0 w (Sep (CellO pg (pageC g v b k)) S)) : w.cell? ⟨pg, 0, none⟩ = some (.pointer (some g)) ∧ w.cell? ⟨pg, 1, none⟩ = some v ∧ w.cell? ⟨pg, 2, none⟩ = some (.map (some b)) ∧ w.cell? ⟨pg, 3, none⟩ = some (.int .i64 (k : Int)) := by
  have h1 := cellO_is h
  unfold pageC at h1
  refine ⟨?_, ?_, ?_, ?_⟩ <;> (rw [Lib.cell_of_heap h1]; rfl)
theorem page_thawed (h : Made w0 w (Sep (CellO pg (pageC g v b k)) S)) (i : Nat) : w.frozen? ⟨pg, i, none⟩ = false := Lib.frozen_of_heap (cellO_is h) i
/-- the names' field stored -/
theorem wpList_store_open {ops : Array Oper} {rest : List Oper} {o : Oper} {a : Act} {Q : Exit → Act → World → Prop} (hg : o.guard = none) (x y : Operand) (ho : o.op = .store 26 x y) (hM : Made w0 w (Sep (CellO pg (pageC g v b k)) S)) (hS : Lies S)
    (hx : a.eval x = .pointer (some ⟨pg, 1, none⟩)) (ad : Option Addr) (m c : Nat) (v' : Value) (hy : a.eval y = v') (hv : v' = .slice ad m c)
    (hK : ∀ w', Made w0 w' (Sep (CellO pg (pageC g v' b k)) S) → wpList Try.prog ops Q rest (a.put o.dst undef) w') : wpList Try.prog ops Q (o :: rest) a w := by
  subst hv
  refine wpList_plain hg fun K' hK' => ?_
  unfold Oper.wp execOp
  have h1 := cellO_is hM
  unfold pageC at h1
  simp only [ho, hx, hy, Instr.storeAt, Instr.sureAddr, Sem.run_bind, Sem.run_pure, Result.andThen_ok, run_storeVar_one (P := Try.prog) pg 1 _ _ 26 (.slice ad m c) h1 (by simp) (by kernel_rfl) rfl rfl]
  exact hK' _ _ (hK _ (cellO_set hM hS 1 _))
/-! what the flow's methods do to it -/
theorem pageLine (hM : Made w0 w (PageS pg g b v l k fl n f R)) (hR : Lies R) (hs : fl.size ≤ 1073741824) :
    Calls Try.prog 43 #[.pointer (some g)] w fun e w' => e = .returned (.tuple #[]) ∧ Made w0 w' (PageS pg g b v l k (lineF fl) n f R) := by
  refine (Made.call hM.fourth ((cellO_lies pg _).sep ((strO_lies v l).sep ((cntO_lies b n f).sep hR))) (S' := FloO g (lineF fl)) (Q := fun e => e = .returned (.tuple #[])) fun F hF => floLine_any g fl w F hF hs).mono ?_
  rintro e w' ⟨rfl, m⟩
  exact ⟨rfl, m.fourthB⟩
theorem pageBreak (hM : Made w0 w (PageS pg g b v l k fl n f R)) (hR : Lies R) (hs : fl.size ≤ 1073741824) (m : Int) (hm : -9223372036854775808 ≤ m ∧ m ≤ 9223372036854775807) :
    Calls Try.prog 44 #[.pointer (some g), .int .i64 m] w fun e w' => e = .returned (.tuple #[]) ∧ Made w0 w' (PageS pg g b v l k (brkF m fl) n f R) := by
  refine (Made.call hM.fourth ((cellO_lies pg _).sep ((strO_lies v l).sep ((cntO_lies b n f).sep hR))) (S' := FloO g (brkF m fl)) (Q := fun e => e = .returned (.tuple #[])) fun F hF => floBreak_any g fl m w F hF hs hm).mono ?_
  rintro e w' ⟨rfl, m⟩
  exact ⟨rfl, m.fourthB⟩
theorem pagePut (hM : Made w0 w (PageS pg g b v l k fl n f R)) (hR : Lies R) (s : ByteArray) (keep : Bool) (hs : fl.size + s.size ≤ 1073741824) :
    Calls Try.prog 37 #[.pointer (some g), .string s, .bool keep] w fun e w' => e = .returned (.tuple #[]) ∧ Made w0 w' (PageS pg g b v l k (putL keep fl s.data.toList) n f R) := by
  refine (Made.call hM.fourth ((cellO_lies pg _).sep ((strO_lies v l).sep ((cntO_lies b n f).sep hR))) (S' := FloO g (putL keep fl s.data.toList)) (Q := fun e => e = .returned (.tuple #[])) fun F hF => floPut_any g fl s keep w F hF hs).mono ?_
  rintro e w' ⟨rfl, m⟩
  exact ⟨rfl, m.fourthB⟩
theorem pageText (hM : Made w0 w (PageS pg g b v l k fl n f R)) (hR : Lies R) (hs : fl.size ≤ 1073741824) :
    Calls Try.prog 18 #[.pointer (some g)] w fun e w' => e = .returned (.string ⟨fl.told.toArray⟩) ∧ Made w0 w' (PageS pg g b v l k fl n f R) := by
  refine (Made.call hM.fourth ((cellO_lies pg _).sep ((strO_lies v l).sep ((cntO_lies b n f).sep hR))) (S' := FloO g fl) (Q := fun e => e = .returned (.string ⟨fl.told.toArray⟩)) fun F hF => floText_any g fl w F hF hs).mono ?_
  rintro e w' ⟨rfl, m⟩
  exact ⟨rfl, m.fourthB⟩
end

/-! its own methods -/
set_option maxRecDepth 100000 in
set_option maxHeartbeats 1000000 in
theorem hidden_any {w0 w : World} {pg : Nat} {g : Addr} {b : Nat} {v : Value} {l : List Txt} {k : Nat} {fl : FloP} {n : Nat} {f : Txt → Nat} {R : Own} (hM : Made w0 w (PageS pg g b v l k fl n f R)) :
    Calls Try.prog 31 #[.pointer (some ⟨pg, 0, none⟩)] w fun e w' => e = .returned (.bool (decide (l ≠ []))) ∧ w' = w := by
  obtain ⟨c0, c1, c2, c3⟩ := page_cells hM
  obtain ⟨a, cap, hv, -⟩ := strO_is hM.turn
  subst hv
  obtain ⟨m, hm⟩ : ∃ m, l.length = m := ⟨_, rfl⟩
  have hd : decide (0 < m) = decide (l ≠ []) := by
    rw [← hm]
    exact Bool.eq_iff_iff.2 (by rw [decide_eq_true_iff, decide_eq_true_iff]; exact List.length_pos_iff)
  obtain ⟨B, hB⟩ : ∃ B, decide (l ≠ []) = B := ⟨_, rfl⟩
  rw [hB] at hd ⊢
  rw [hm] at c1
  have HD := Lib.hid hd
  clear hM c0 c2 c3 hm hB hd
  go_enter Try.func31, Try.ntmps31
  go_wp2
  go_ret
  exact ⟨ret_bool HD.out, rfl⟩

set_option maxRecDepth 100000 in
set_option maxHeartbeats 2000000 in
theorem part_any {w0 w : World} {pg : Nat} {g : Addr} {b : Nat} {v : Value} {l : List Txt} {k : Nat} {fl : FloP} {n : Nat} {f : Txt → Nat} {R : Own} (hM : Made w0 w (PageS pg g b v l k fl n f R)) (hR : Lies R) (nm : ByteArray) (hs : fl.size ≤ 1073741000) :
    Calls Try.prog 32 #[.pointer (some ⟨pg, 0, none⟩), .string nm] w fun e w' => e = .returned (.tuple #[]) ∧ Made w0 w' (PageS pg g b v l k (linesF nm.data.toList fl) n f R) := by
  have H := Lib.hid hM
  have hb2 : (nm.toList == [98, 114]) = decide (nm.data.toList = brL) := by
    rw [ByteArray.toList_eq]
    exact Bool.eq_iff_iff.2 (by rw [beq_iff_eq, decide_eq_true_iff]; exact Iff.rfl)
  have hs1 := line_size fl
  have hbr : (brF nm.data.toList fl).size ≤ fl.size + 1 := by unfold brF; split <;> omega
  have hlr := lin_range nm.data.toList
  have C1 := fun w' h => Lib.hid (pageLine (w0 := w0) (w := w') (pg := pg) (g := g) (b := b) (v := v) (l := l) (k := k) (fl := fl) (n := n) (f := f) (R := R) h hR (by omega))
  have C2 := fun w' h => Lib.hid (pageBreak (w0 := w0) (w := w') (pg := pg) (g := g) (b := b) (v := v) (l := l) (k := k) (fl := brF nm.data.toList fl) (n := n) (f := f) (R := R) h hR (by omega) (linN nm.data.toList) (by omega))
  have CL := fun w => Lib.hid (kLines_any nm w (knd_here w))
  have HP := Lib.hid (fun fl => page_lies pg g b v l k fl n f hR)
  have hlf : linesF nm.data.toList fl = if 0 < linN nm.data.toList then brkF (linN nm.data.toList) (brF nm.data.toList fl) else brF nm.data.toList fl := rfl
  obtain ⟨G, hG⟩ : ∃ G, linesF nm.data.toList fl = G := ⟨_, rfl⟩
  obtain ⟨B, hB⟩ : ∃ B, brF nm.data.toList fl = B := ⟨_, rfl⟩
  obtain ⟨N, hN⟩ : ∃ N, linN nm.data.toList = N := ⟨_, rfl⟩
  have hbe : B = if nm.data.toList = brL then lineF fl else fl := by rw [← hB]; rfl
  rw [hG, hN, hB] at hlf
  rw [hN, hB] at C2
  rw [hN] at CL hlr
  rw [hG]
  clear hG hB hN hM hs hs1 hbr hR
  obtain ⟨c0, c1, c2, c3⟩ := page_cells H.out
  clear c1 c2 c3
  by_cases hx : nm.data.toList = brL
  · rw [decide_eq_true hx] at hb2
    rw [if_pos hx] at hbe
    rw [← hbe] at C1
    clear hx hbe
    by_cases hn : 0 < N
    · rw [if_pos hn] at hlf
      rw [← hlf] at C2
      have hn2 : (N == 0) = false := beq_eq_false_iff_ne.2 (by omega)
      have hn3 : (N != 0) = true := by rw [bne, hn2]; rfl
      clear hlf
      go_enter Try.func32, Try.ntmps32
      go_wp2_with (fail)
      refine (C1 _ H.out).out.mono ?_
      rintro e w1 ⟨rfl, m1⟩
      have M1 := Lib.hid m1
      clear m1 c0
      go_wp2_with (fail)
      refine (CL _).out.mono ?_
      rintro e w2 ⟨rfl, b2⟩
      have M2 := Lib.hid (M1.out.below (HP.out _) b2)
      obtain ⟨c0, c1, c2, c3⟩ := page_cells M2.out
      clear b2 c1 c2 c3
      go_wp2_with (fail)
      refine (C2 _ M2.out).out.mono ?_
      rintro e w3 ⟨rfl, m3⟩
      go_wp2
      refine bodyPost_end (results_none rfl _ _ _) rfl ?_
      exact ⟨rfl, m3⟩
    · rw [if_neg hn] at hlf
      obtain rfl : N = 0 := by omega
      subst hlf
      go_enter Try.func32, Try.ntmps32
      go_wp2_with (fail)
      refine (C1 _ H.out).out.mono ?_
      rintro e w1 ⟨rfl, m1⟩
      have M1 := Lib.hid m1
      clear m1 c0
      go_wp2_with (fail)
      refine (CL _).out.mono ?_
      rintro e w2 ⟨rfl, b2⟩
      have M2 := Lib.hid (M1.out.below (HP.out _) b2)
      clear b2
      go_wp2
      refine bodyPost_end (results_none rfl _ _ _) rfl ?_
      exact ⟨rfl, M2.out⟩
  · rw [decide_eq_false hx] at hb2
    rw [if_neg hx] at hbe
    subst hbe
    clear hx C1
    by_cases hn : 0 < N
    · rw [if_pos hn] at hlf
      rw [← hlf] at C2
      have hn2 : (N == 0) = false := beq_eq_false_iff_ne.2 (by omega)
      have hn3 : (N != 0) = true := by rw [bne, hn2]; rfl
      clear hlf c0
      go_enter Try.func32, Try.ntmps32
      go_wp2_with (fail)
      refine (CL _).out.mono ?_
      rintro e w2 ⟨rfl, b2⟩
      have M2 := Lib.hid (H.out.below (HP.out _) b2)
      obtain ⟨c0, c1, c2, c3⟩ := page_cells M2.out
      clear b2 c1 c2 c3
      go_wp2_with (fail)
      refine (C2 _ M2.out).out.mono ?_
      rintro e w3 ⟨rfl, m3⟩
      go_wp2
      refine bodyPost_end (results_none rfl _ _ _) rfl ?_
      exact ⟨rfl, m3⟩
    · rw [if_neg hn] at hlf
      obtain rfl : N = 0 := by omega
      subst hlf
      clear c0
      go_enter Try.func32, Try.ntmps32
      go_wp2_with (fail)
      refine (CL _).out.mono ?_
      rintro e w2 ⟨rfl, b2⟩
      have M2 := Lib.hid (H.out.below (HP.out _) b2)
      clear b2
      go_wp2
      refine bodyPost_end (results_none rfl _ _ _) rfl ?_
      exact ⟨rfl, M2.out⟩

set_option maxRecDepth 100000 in
set_option maxHeartbeats 2000000 in
theorem keepMore_any {w0 w : World} {pg : Nat} {g : Addr} {b : Nat} {v : Value} {l : List Txt} {k : Nat} {fl : FloP} {n : Nat} {f : Txt → Nat} {R : Own} (hM : Made w0 w (PageS pg g b v l k fl n f R)) (hR : Lies R) (nm : ByteArray) (hk : k ≤ 1000000) :
    Calls Try.prog 33 #[.pointer (some ⟨pg, 0, none⟩), .string nm, .int .i64 1] w fun e w' => e = .returned (.tuple #[]) ∧ Made w0 w' (PageS pg g b v l (k + oneIf (keeN nm.data.toList)) fl n f R) := by
  have CK := fun w => Lib.hid (kKeeps_any nm w (knd_here w))
  have H := Lib.hid hM
  have HP := Lib.hid (page_lies pg g b v l k fl n f hR)
  have HT := Lib.hid ((strO_lies v l).sep ((cntO_lies b n f).sep ((floO_lies g fl).sep hR)))
  obtain ⟨kb, hkb⟩ : ∃ kb, keeN nm.data.toList = kb := ⟨_, rfl⟩
  rw [hkb] at CK ⊢
  clear hkb hM hR
  cases kb
  · go_enter Try.func33, Try.ntmps33
    go_wp2_with (fail)
    refine (CK _).out.mono ?_
    rintro e w2 ⟨rfl, b2⟩
    have M2 := Lib.hid (H.out.below HP.out b2)
    clear b2
    go_wp2
    refine bodyPost_end (results_none rfl _ _ _) rfl ?_
    exact ⟨rfl, M2.out⟩
  · have e1 : max (0 : Int) ((k : Int) + 1) = (k : Int) + 1 := by omega
    go_enter Try.func33, Try.ntmps33
    go_wp2_with (fail)
    refine (CK _).out.mono ?_
    rintro e w2 ⟨rfl, b2⟩
    have M2 := Lib.hid (H.out.below HP.out b2)
    obtain ⟨c0, c1, c2, c3⟩ := page_cells M2.out
    have f3 := page_thawed M2.out 3
    have M3 := Lib.hid (cellO_set M2.out HT.out 3 (.int .i64 ((k : Int) + 1)))
    clear b2 c0 c1 c2
    go_wp2
    refine bodyPost_end (results_none rfl _ _ _) rfl ?_
    exact ⟨rfl, M3.out⟩

set_option maxRecDepth 100000 in
set_option maxHeartbeats 2000000 in
theorem keepLess_any {w0 w : World} {pg : Nat} {g : Addr} {b : Nat} {v : Value} {l : List Txt} {k : Nat} {fl : FloP} {n : Nat} {f : Txt → Nat} {R : Own} (hM : Made w0 w (PageS pg g b v l k fl n f R)) (hR : Lies R) (nm : ByteArray) (hk : k ≤ 1000000) :
    Calls Try.prog 33 #[.pointer (some ⟨pg, 0, none⟩), .string nm, .int .i64 (-1)] w fun e w' => e = .returned (.tuple #[]) ∧ Made w0 w' (PageS pg g b v l (k - oneIf (keeN nm.data.toList)) fl n f R) := by
  have CK := fun w => Lib.hid (kKeeps_any nm w (knd_here w))
  have H := Lib.hid hM
  have HP := Lib.hid (page_lies pg g b v l k fl n f hR)
  have HT := Lib.hid ((strO_lies v l).sep ((cntO_lies b n f).sep ((floO_lies g fl).sep hR)))
  obtain ⟨kb, hkb⟩ : ∃ kb, keeN nm.data.toList = kb := ⟨_, rfl⟩
  rw [hkb] at CK ⊢
  clear hkb hM hR
  cases kb
  · go_enter Try.func33, Try.ntmps33
    go_wp2_with (fail)
    refine (CK _).out.mono ?_
    rintro e w2 ⟨rfl, b2⟩
    have M2 := Lib.hid (H.out.below HP.out b2)
    clear b2
    go_wp2
    refine bodyPost_end (results_none rfl _ _ _) rfl ?_
    exact ⟨rfl, M2.out⟩
  · obtain ⟨q, hq⟩ : ∃ q : Nat, k - oneIf true = q := ⟨_, rfl⟩
    have e1 : max (0 : Int) ((k : Int) + -1) = (q : Int) := by rw [← hq]; unfold oneIf; rw [if_pos rfl]; omega
    rw [hq]
    clear hq
    go_enter Try.func33, Try.ntmps33
    go_wp2_with (fail)
    refine (CK _).out.mono ?_
    rintro e w2 ⟨rfl, b2⟩
    have M2 := Lib.hid (H.out.below HP.out b2)
    obtain ⟨c0, c1, c2, c3⟩ := page_cells M2.out
    have f3 := page_thawed M2.out 3
    have M3 := Lib.hid (cellO_set M2.out HT.out 3 (.int .i64 (q : Int)))
    clear b2 c0 c1 c2
    go_wp2
    refine bodyPost_end (results_none rfl _ _ _) rfl ?_
    exact ⟨rfl, M3.out⟩
end Go.Proofs.Ytappdjhhaohejaa
