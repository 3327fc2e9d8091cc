/-
  What the document's flow of layer 18 does: things that are done.
-/
import Derived.Test.YtappdjhhaohejaaFloRefB
import Derived.StillTailTactics
namespace Go.Proofs.Ytappdjhhaohejaa
open Go.RowKit Go.Lib

theorem putL_snoc (keep : Bool) (f : FloP) (s : Txt) (i : Nat) (c : UInt8) (h : s[i]? = some c) : putL keep f (s.take (i + 1)) = putB keep (putL keep f (s.take i)) c := by
  rw [List.take_add_one, h, putL_app]; rfl
set_option maxRecDepth 100000 in
set_option maxHeartbeats 8000000 in
theorem refDo_put (g : Nat) (f : FloP) (s : ByteArray) (keep : Bool) (n : Int) (w : World) (h : FloIs 54 w g f) (hs : f.size + s.size ≤ 1073741824) :
    Calls Try.prog 24 #[.pointer (some ⟨g, 0, none⟩), .agg #[.int .i64 0, .string s, .bool keep, .int .i64 n]] w (PutIs g (putL keep f s.data.toList) w) := by
  have C := fun (f : FloP) (c : UInt8) (w : World) (h : FloIs 54 w g f) (hs : f.size ≤ 1073741824) => Lib.hid (put_any g f c keep w h hs)
  have H := Lib.hid h
  have hsz : s.size ≤ 1073741824 := by omega
  have HS := Lib.hid hs
  have zg := h.lt
  clear h hs
  obtain ⟨b, hb⟩ : ∃ b, w.heap.size = b := ⟨_, rfl⟩
  obtain ⟨w1, hw1⟩ : ∃ w1, w.alloc (.cells #[.int .i64 0, .string s, .bool keep, .int .i64 n] 60) = w1 := ⟨_, rfl⟩
  have B1 := Lib.hid (show Below w.heap.size w w1 by rw [← hw1]; exact (Below.refl _ _).alloc (Nat.le_refl _) _)
  have Y := Lib.hid (show w1.heap[b]? = some (.cells #[.int .i64 0, .string s, .bool keep, .int .i64 n] 60 (0, 0)) by rw [← hw1, ← hb]; exact heap_alloc_new w _)
  have HW := Lib.hid hw1
  have ne : some b ≠ some g := fun e => by injection e with e; omega
  have NE := Lib.hid ne
  clear hw1 ne
  go_enter Try.func24, Try.ntmps24
  go_wp2
  rw [HW.out]
  have HB := Lib.hid hb
  clear hb
  go_loopw [5] (fun v wr => ∃ i : Nat, v = .int .i64 (i : Int) ∧ i ≤ s.size ∧ FloIs 54 wr g (putL keep f (s.data.toList.take i)) ∧ w1.grownBy wr (some g)) (fun v _ => s.size - (intOf v).toNat)
  case atStart => exact ⟨0, rfl, Nat.zero_le _, by rw [List.take_zero]; exact FloAt.below H.out B1.out, grown_none (Below.refl _ _) _⟩
  case round =>
    obtain ⟨i, rfl, hi, hF, hG⟩ := hrel
    have Y' := (hG.block b (Array.getElem?_eq_some_iff.1 Y.out).1 NE.out).trans Y.out
    have y1 : wr.cell? ⟨b, 1, none⟩ = some (.string s) := by rw [cell_of_row _ _ _ _ _ _ Y']; rfl
    have y2 : wr.cell? ⟨b, 2, none⟩ = some (.bool keep) := by rw [cell_of_row _ _ _ _ _ _ Y']; rfl
    have HF := Lib.hid hF
    have HG := Lib.hid hG
    clear hF hG Y'
    by_cases hlt : i < s.size
    · have HC := C (putL keep f (s.data.toList.take i)) s.data[i] wr.drew (FloAt.below HF.out ((Below.refl _ _).drew)) (by
        have := putL_size keep (s.data.toList.take i) f
        have h2 := HS.out
        rw [List.length_take] at this
        omega)
      go_wp2
      go_still_tail 7, (by kernel_rfl)
      change wpList _ _ _ _ _ wr.drew
      obtain ⟨w2, hw2⟩ : ∃ w2, wr.drew = w2 := ⟨_, rfl⟩
      have G2 := Lib.hid (show w1.grownBy w2 (some g) from HG.out.trans (grown_none (by rw [← hw2]; exact (Below.refl _ _).drew) _))
      rw [hw2] at HC ⊢
      have SN := Lib.hid (putL_snoc keep f s.data.toList i s.data[i] (by simp))
      clear hw2 y1 y2
      go_wp2_with (go_at_call 40; refine HC.out.mono ?_; rintro e w3 ⟨rfl, h3, g3⟩)
      go_roundw
      case rel => exact ⟨i + 1, by go_num, by omega, by rw [SN.out]; exact h3, G2.out.trans g3⟩
      case measure => simp [intOf]; omega
    · obtain rfl : i = s.size := by omega
      go_wp2
      refine bodyPost_end (results_none rfl _ _ _) (by rfl) ?_
      have e : s.data.toList.take s.size = s.data.toList := List.take_of_length_le (by rw [Lib.size_eq]; exact Nat.le_refl _)
      rw [e] at HF
      exact ⟨rfl, HF.out, (grown_none B1.out _).trans HG.out⟩

/-- the box of what is done, kept over stores into the flow -/
theorem act_cell (w w1 : World) (k n : Int) (s : ByteArray) (keep : Bool) (T : TypeId) (g b : Nat) (hb : w.heap.size = b) (hg : g < b) (h : (w.alloc (.cells #[.int .i64 k, .string s, .bool keep, .int .i64 n] T)).grownBy w1 (some g)) : w1.cell? ⟨b, 0, none⟩ = some (.int .i64 k) := by
  have e := heap_alloc_new w (.cells #[.int .i64 k, .string s, .bool keep, .int .i64 n] T)
  rw [hb] at e
  have h2 := (h.block b (Array.getElem?_eq_some_iff.1 e).1 (fun e => by injection e with e; omega)).trans e
  rw [cell_of_row _ _ _ _ _ _ h2]; rfl

set_option maxRecDepth 100000 in
set_option maxHeartbeats 8000000 in
theorem refDo_break (g : Nat) (f : FloP) (s : ByteArray) (keep : Bool) (n : Int) (w : World) (h : FloIs 54 w g f) (hs : f.size ≤ 1073741824) (hn : -9223372036854775808 ≤ n ∧ n ≤ 9223372036854775807) :
    Calls Try.prog 24 #[.pointer (some ⟨g, 0, none⟩), .agg #[.int .i64 1, .string s, .bool keep, .int .i64 n]] w (PutIs g (brkF n f) w) := by
  have hen : f.ends ≤ 1073741824 := by unfold FloP.size at hs; omega
  obtain ⟨t, m, b⟩ := f
  unfold PutIs FloIs brkF at *
  simp only at h hen ⊢
  clear hs
  generalize (⟨t.toArray⟩ : ByteArray) = A at h ⊢
  generalize (⟨b.toArray⟩ : ByteArray) = B at h ⊢
  have zg := h.lt
  have B1 := (Below.refl w.heap.size w).alloc (Nat.le_refl _) (.cells #[.int .i64 1, .string s, .bool keep, .int .i64 n] 60)
  have H := Lib.hid (FloAt.below h B1)
  obtain ⟨b, hb⟩ : ∃ b, w.heap.size = b := ⟨_, rfl⟩
  have YC := fun w1 => Lib.hid (act_cell w w1 1 n s keep 60 g b hb (by omega))
  have B1 := Lib.hid B1
  obtain ⟨x0, x1, x2⟩ := floAt_cells H.out
  clear h x0 x2
  by_cases h1 : n ≤ 100 <;> by_cases h2 : (m : Int) < min n 100
  all_goals
    obtain ⟨r, hr⟩ : ∃ r : Nat, max m (min n 100).toNat = r := ⟨_, rfl⟩
    rw [hr]
  · obtain rfl : (r : Int) = n := by omega
    have h2 : (m : Int) < (r : Int) := by omega
    have hmn : min (r : Int) 100 = (r : Int) := by omega
    clear hr
    go_enter Try.func24, Try.ntmps24
    go_wp2_with (first
      | (refine wpList_store_flo 54 rfl 3 _ _ rfl g 1 _ A A m r B B rfl rfl H.out (by decide) sizeIntF rfl rfl rfl ?_; intro w1 h1 g1; have H1 := Lib.hid h1; have G1 := Lib.hid g1; have y0 := (YC w1).out g1; clear h1 g1)
      | (refine wpList_store_flo 54 rfl 9 _ _ rfl g 2 _ A A r r B ⟨#[]⟩ rfl rfl H1.out (by decide) sizeStrF rfl rfl rfl ?_; intro w2 h2 g2; have H2 := Lib.hid h2; have G2 := Lib.hid (G1.out.trans g2); have y0 := (YC w2).out (G1.out.trans g2); clear h2 g2))
    refine bodyPost_ret (results_none rfl _ _ _) (by rfl) ?_
    exact ⟨rfl, H2.out, (grown_none B1.out _).trans G2.out⟩
  · obtain rfl : r = m := by omega
    have h3 : n ≤ (r : Int) := by omega
    clear hr h2
    go_enter Try.func24, Try.ntmps24
    go_wp2_with (refine wpList_store_flo 54 rfl 9 _ _ rfl g 2 _ A A r r B ⟨#[]⟩ rfl rfl H.out (by decide) sizeStrF rfl rfl rfl ?_; intro w2 h2 g2; have H2 := Lib.hid h2; have G2 := Lib.hid g2; have y0 := (YC w2).out g2; clear h2 g2)
    refine bodyPost_ret (results_none rfl _ _ _) (by rfl) ?_
    exact ⟨rfl, H2.out, (grown_none B1.out _).trans G2.out⟩
  · obtain rfl : r = 100 := by omega
    have h2 : (m : Int) < 100 := by omega
    have h1 : 100 < n := by omega
    have hmn : min n 100 = (100 : Int) := by omega
    clear hr
    go_enter Try.func24, Try.ntmps24
    go_wp2_with (first
      | (refine wpList_store_flo 54 rfl 3 _ _ rfl g 1 _ A A m 100 B B rfl rfl H.out (by decide) sizeIntF rfl rfl rfl ?_; intro w1 h1 g1; have H1 := Lib.hid h1; have G1 := Lib.hid g1; have y0 := (YC w1).out g1; clear h1 g1)
      | (refine wpList_store_flo 54 rfl 9 _ _ rfl g 2 _ A A 100 100 B ⟨#[]⟩ rfl rfl H1.out (by decide) sizeStrF rfl rfl rfl ?_; intro w2 h2 g2; have H2 := Lib.hid h2; have G2 := Lib.hid (G1.out.trans g2); have y0 := (YC w2).out (G1.out.trans g2); clear h2 g2))
    refine bodyPost_ret (results_none rfl _ _ _) (by rfl) ?_
    exact ⟨rfl, H2.out, (grown_none B1.out _).trans G2.out⟩
  · obtain rfl : r = m := by omega
    have h3 : (100 : Int) ≤ (r : Int) := by omega
    have h1 : 100 < n := by omega
    clear hr h2
    go_enter Try.func24, Try.ntmps24
    go_wp2_with (refine wpList_store_flo 54 rfl 9 _ _ rfl g 2 _ A A r r B ⟨#[]⟩ rfl rfl H.out (by decide) sizeStrF rfl rfl rfl ?_; intro w2 h2 g2; have H2 := Lib.hid h2; have G2 := Lib.hid g2; have y0 := (YC w2).out g2; clear h2 g2)
    refine bodyPost_ret (results_none rfl _ _ _) (by rfl) ?_
    exact ⟨rfl, H2.out, (grown_none B1.out _).trans G2.out⟩

set_option maxRecDepth 100000 in
set_option maxHeartbeats 8000000 in
theorem refDo_line (g : Nat) (f : FloP) (s : ByteArray) (keep : Bool) (n : Int) (w : World) (h : FloIs 54 w g f) (hs : f.size ≤ 1073741824) :
    Calls Try.prog 24 #[.pointer (some ⟨g, 0, none⟩), .agg #[.int .i64 2, .string s, .bool keep, .int .i64 n]] w (PutIs g (lineF f) w) := by
  have hen : f.ends ≤ 1073741824 := by unfold FloP.size at hs; omega
  obtain ⟨t, m, b⟩ := f
  unfold PutIs FloIs lineF at *
  simp only at h hen ⊢
  clear hs
  generalize (⟨t.toArray⟩ : ByteArray) = A at h ⊢
  generalize (⟨b.toArray⟩ : ByteArray) = B at h ⊢
  have zg := h.lt
  have B1 := (Below.refl w.heap.size w).alloc (Nat.le_refl _) (.cells #[.int .i64 2, .string s, .bool keep, .int .i64 n] 60)
  have H := Lib.hid (FloAt.below h B1)
  obtain ⟨b, hb⟩ : ∃ b, w.heap.size = b := ⟨_, rfl⟩
  have YC := fun w1 => Lib.hid (act_cell w w1 2 n s keep 60 g b hb (by omega))
  have B1 := Lib.hid B1
  obtain ⟨x0, x1, x2⟩ := floAt_cells H.out
  clear h x0 x2
  go_enter Try.func24, Try.ntmps24
  go_wp2_with (first
    | (refine wpList_store_flo 54 rfl 3 _ _ rfl g 1 _ A A m (m + 1) B B rfl rfl H.out (by decide) sizeIntF rfl rfl (by first | rfl | (simp [floCells])) ?_; intro w1 h1 g1; have H1 := Lib.hid h1; have G1 := Lib.hid g1; have y0 := (YC w1).out g1; clear h1 g1)
    | (refine wpList_store_flo 54 rfl 9 _ _ rfl g 2 _ A A (m + 1) (m + 1) B ⟨#[]⟩ rfl rfl H1.out (by decide) sizeStrF rfl rfl rfl ?_; intro w2 h2 g2; have H2 := Lib.hid h2; have G2 := Lib.hid (G1.out.trans g2); have y0 := (YC w2).out (G1.out.trans g2); clear h2 g2))
  refine bodyPost_ret (results_none rfl _ _ _) (by rfl) ?_
  exact ⟨rfl, H2.out, (grown_none B1.out _).trans G2.out⟩

set_option maxRecDepth 100000 in
set_option maxHeartbeats 8000000 in
theorem refDo_other (g : Nat) (f : FloP) (k : Int) (s : ByteArray) (keep : Bool) (n : Int) (w : World) (h : FloIs 54 w g f) (h0 : (k == 0) = false) (h1 : (k == 1) = false) (h2 : (k == 2) = false) :
    Calls Try.prog 24 #[.pointer (some ⟨g, 0, none⟩), .agg #[.int .i64 k, .string s, .bool keep, .int .i64 n]] w (PutIs g f w) := by
  have B1 := (Below.refl w.heap.size w).alloc (Nat.le_refl _) (.cells #[.int .i64 k, .string s, .bool keep, .int .i64 n] 60)
  have H := Lib.hid (FloAt.below h B1)
  have B1 := Lib.hid B1
  clear h
  go_enter Try.func24, Try.ntmps24
  go_wp2
  refine bodyPost_ret (results_none rfl _ _ _) (by rfl) ?_
  exact ⟨rfl, H.out, grown_none B1.out _⟩
/-- P18.1, P18.2: a thing that is done -/
theorem refDo_any (g : Nat) (f : FloP) (k : Int) (s : ByteArray) (keep : Bool) (n : Int) (w : World) (h : FloIs 54 w g f) (hs : f.size + s.size ≤ 1073741824) (hn : -9223372036854775808 ≤ n ∧ n ≤ 9223372036854775807) :
    Calls Try.prog 24 #[.pointer (some ⟨g, 0, none⟩), .agg #[.int .i64 k, .string s, .bool keep, .int .i64 n]] w (PutIs g (actF f ⟨k, s.data.toList, keep, n⟩) w) := by
  unfold actF
  simp only
  by_cases h0 : k = 0
  · rw [if_pos h0, h0]; exact refDo_put g f s keep n w h hs
  · rw [if_neg h0]
    by_cases h1 : k = 1
    · rw [if_pos h1, h1]; exact refDo_break g f s keep n w h (by omega) hn
    · rw [if_neg h1]
      by_cases h2 : k = 2
      · rw [if_pos h2, h2]; exact refDo_line g f s keep n w h (by omega)
      · rw [if_neg h2]
        exact refDo_other g f k s keep n w h (by rw [beq_eq_false_iff_ne]; exact h0) (by rw [beq_eq_false_iff_ne]; exact h1) (by rw [beq_eq_false_iff_ne]; exact h2)
end Go.Proofs.Ytappdjhhaohejaa
