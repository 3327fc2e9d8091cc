/-
  What the document's flow of layer 18 does: a byte that is put.
-/
import Derived.Test.YtappdjhhaohejaaProg
import Derived.Test.YtappdjhhaohejaaFloAt
import Derived.Deep.RegionHeld3
import Derived.KernelRfl
namespace Go.Proofs.Ytappdjhhaohejaa
open Go.RowKit Go.Lib

theorem sizeStrF : (Try.prog.info? 9).map (·.size) = some 1 := by kernel_rfl
theorem sizeIntF : (Try.prog.info? 3).map (·.size) = some 1 := by kernel_rfl
theorem u8_test (c : UInt8) (n : Nat) (hn : n < 256) : (((c.toNat : Nat) : Int) == (n : Int)) = (c == UInt8.ofNat n) := by
  rw [Bool.eq_iff_iff, beq_iff_eq, beq_iff_eq]
  constructor
  · exact fun h => u8_eq c n hn h
  · rintro rfl
    simp; omega
theorem str_one (a : Txt) (c : UInt8) : (⟨a.toArray⟩ : ByteArray) ++ ⟨#[c]⟩ = ⟨(a ++ [c]).toArray⟩ := str_ext (by simp)
theorem str_two (a b : Txt) : (⟨a.toArray⟩ : ByteArray) ++ ⟨b.toArray⟩ = ⟨(a ++ b).toArray⟩ := str_ext (by simp)
theorem one_drew (w : World) (q : Int) (c : UInt8) (h : (c.toNat : Int) = q) :
    (convert 39 9 (.slice (some ⟨w.heap.size, 0, none⟩) 1 1)).run Try.prog (w.alloc (.cells #[.int .u8 q] 5)).drew = .ok (.string ⟨#[c]⟩) (w.alloc (.cells #[.int .u8 q] 5)).drew := by
  refine run_convert_bytes_back (P := Try.prog) _ 39 9 5 ⟨w.heap.size, 0, none⟩ 1 [c] Try.underlying39 Try.underlying5 Try.underlying9 ?_
  intro j hj
  have : j = 0 := by simp at hj; exact hj
  subst this
  rw [show ((⟨w.heap.size, 0, none⟩ : Addr).add 0) = ⟨w.heap.size, 0, none⟩ from rfl]
  show (w.alloc (.cells #[.int .u8 q] 5)).cell? _ = _
  rw [Lib.cell_of_heap (heap_alloc_new w _), ← h]
  rfl
theorem flo_drew {T : TypeId} {w w1 : World} {g : Nat} {t : ByteArray} {n : Nat} {b : ByteArray} (h : FloAt T w1 g t n b ∧ w.grownBy w1 (some g)) (o : Obj) : FloAt T (w1.alloc o).drew g t n b ∧ w.grownBy (w1.alloc o).drew (some g) := by
  have h1 : Below w1.heap.size w1 (w1.alloc o).drew := ((Below.refl _ w1).alloc (Nat.le_refl _) _).drew
  exact ⟨h.1.below h1, h.2.trans (grown_none h1 _)⟩
/-- what is asked of a put -/
def PutIs (g : Nat) (f : FloP) (w : World) (e : Ending) (w' : World) : Prop := e = .returned (.tuple #[]) ∧ FloIs 54 w' g f ∧ w.grownBy w' (some g)

set_option maxRecDepth 100000 in
set_option maxHeartbeats 4000000 in
theorem put_zero (g : Nat) (f : FloP) (keep : Bool) (w : World) (h : FloIs 54 w g f) :
    Calls Try.prog 40 #[.pointer (some ⟨g, 0, none⟩), .int .u8 0, .bool keep] w (PutIs g f w) := by
  have H := Lib.hid h
  clear h
  go_enter Try.func40, Try.ntmps40
  go_wp2
  refine bodyPost_ret (results_none rfl _ _ _) rfl ?_
  exact ⟨rfl, H.out, grown_none (Below.refl _ _) _⟩

set_option maxRecDepth 100000 in
set_option maxHeartbeats 8000000 in
theorem put_kept (g : Nat) (f : FloP) (c : UInt8) (w : World) (h : FloIs 54 w g f) (hc : c = 9 ∨ c = 12 ∨ c = 32) (hs : f.size ≤ 1073741824) :
    Calls Try.prog 40 #[.pointer (some ⟨g, 0, none⟩), .int .u8 ((c.toNat : Nat) : Int), .bool true] w (PutIs g ⟨f.told, f.ends, f.blanks ++ [c]⟩ w) := by
  have hbl : f.blanks.length ≤ 1073741824 := by unfold FloP.size at hs; omega
  obtain ⟨t, n, b⟩ := f
  unfold PutIs FloIs at *
  simp only at h hbl ⊢
  clear hs
  rw [← str_one]
  have hb : (⟨b.toArray⟩ : ByteArray).size ≤ 1073741824 := by rw [Lib.size_eq, List.toList_toArray]; exact hbl
  generalize (⟨t.toArray⟩ : ByteArray) = A at h ⊢
  generalize (⟨b.toArray⟩ : ByteArray) = B at h hb ⊢
  have H := Lib.hid h
  obtain ⟨x0, x1, x2⟩ := floAt_cells h
  have z2 := floAt_thawed h 2
  have zg := h.lt
  clear h hbl
  have g1 : ¬ 9223372036854775807 < B.size + 1 := by omega
  have FIN := fun (q : Int) (d : UInt8) => Lib.hid (show FloAt 54 ((w.setCell ⟨g, 2, none⟩ (.string (B ++ ⟨#[d]⟩))).alloc (.cells #[.int .u8 q] 5)).drew g A n (B ++ ⟨#[d]⟩) ∧ w.grownBy ((w.setCell ⟨g, 2, none⟩ (.string (B ++ ⟨#[d]⟩))).alloc (.cells #[.int .u8 q] 5)).drew (some g) from flo_drew (H.out.set 2 _ rfl) _)
  rcases hc with rfl | rfl | rfl
  · have o1 := one_drew w 9 9 rfl
    have F := FIN 9 9
    clear FIN
    go_enter Try.func40, Try.ntmps40
    go_wp2
    go_region_with (fail)
    all_goals
      go_wp2
      refine bodyPost_ret (results_none rfl _ _ _) rfl ?_
      exact ⟨rfl, F.out⟩
  · have o1 := one_drew w 12 12 rfl
    have F := FIN 12 12
    clear FIN
    go_enter Try.func40, Try.ntmps40
    go_wp2
    go_region_with (fail)
    all_goals
      go_wp2
      refine bodyPost_ret (results_none rfl _ _ _) rfl ?_
      exact ⟨rfl, F.out⟩
  · have o1 := one_drew w 32 32 rfl
    have F := FIN 32 32
    clear FIN
    go_enter Try.func40, Try.ntmps40
    go_wp2
    go_region_with (fail)
    all_goals
      go_wp2
      refine bodyPost_ret (results_none rfl _ _ _) rfl ?_
      exact ⟨rfl, F.out⟩

set_option maxRecDepth 100000 in
set_option maxHeartbeats 8000000 in
theorem put_line (g : Nat) (f : FloP) (c : UInt8) (w : World) (h : FloIs 54 w g f) (hc : c = 10 ∨ c = 13) (hs : f.size ≤ 1073741824) :
    Calls Try.prog 40 #[.pointer (some ⟨g, 0, none⟩), .int .u8 ((c.toNat : Nat) : Int), .bool true] w (PutIs g ⟨f.told, f.ends + 1, []⟩ w) := by
  have hbl : f.ends ≤ 1073741824 := by unfold FloP.size at hs; omega
  obtain ⟨t, n, b⟩ := f
  unfold PutIs FloIs at *
  simp only at h hbl ⊢
  clear hs
  generalize (⟨t.toArray⟩ : ByteArray) = A at h ⊢
  generalize (⟨b.toArray⟩ : ByteArray) = B at h ⊢
  have H := Lib.hid h
  obtain ⟨x0, x1, x2⟩ := floAt_cells h
  clear h
  rcases hc with rfl | rfl
  all_goals
    go_enter Try.func40, Try.ntmps40
    go_wp2_with (first
      | (refine wpList_store_flo 54 rfl 3 _ _ rfl g 1 _ A A n (n + 1) B B rfl rfl H.out (by decide) sizeIntF rfl rfl (by first | rfl | (simp [floCells])) ?_; intro w1 h1 g1; have H1 := Lib.hid h1; have G1 := Lib.hid g1; obtain ⟨y0, y1, y2⟩ := floAt_cells h1; clear h1 g1)
      | (refine wpList_store_flo 54 rfl 9 _ _ rfl g 2 _ A A (n + 1) (n + 1) B ⟨#[]⟩ rfl rfl H1.out (by decide) sizeStrF rfl rfl rfl ?_; intro w2 h2 g2))
    refine bodyPost_ret (results_none rfl _ _ _) rfl ?_
    exact ⟨rfl, h2, G1.out.trans g2⟩

set_option maxRecDepth 100000 in
set_option maxHeartbeats 8000000 in
theorem put_thin (g : Nat) (f : FloP) (c : UInt8) (w : World) (h : FloIs 54 w g f) (hc : c = 9 ∨ c = 10 ∨ c = 12 ∨ c = 13 ∨ c = 32) :
    Calls Try.prog 40 #[.pointer (some ⟨g, 0, none⟩), .int .u8 ((c.toNat : Nat) : Int), .bool false] w (PutIs g (if f.ends = 0 ∧ f.blanks = [] then ⟨f.told, 0, [32]⟩ else f) w) := by
  obtain ⟨t, n, b⟩ := f
  unfold PutIs FloIs at *
  simp only at h ⊢
  by_cases hn : n = 0
  · subst hn
    cases b with
    | nil =>
      rw [if_pos ⟨rfl, rfl⟩]
      generalize (⟨t.toArray⟩ : ByteArray) = A at h ⊢
      have h : FloAt 54 w g A 0 ⟨#[]⟩ := h
      have H := Lib.hid h
      obtain ⟨x0, x1, x2⟩ := floAt_cells h
      clear h
      rcases hc with rfl | rfl | rfl | rfl | rfl
      all_goals
        go_enter Try.func40, Try.ntmps40
        go_wp2_with (refine wpList_store_flo 54 rfl 9 _ _ rfl g 2 _ A A 0 0 ⟨#[]⟩ ⟨#[32]⟩ rfl rfl H.out (by decide) sizeStrF rfl rfl rfl ?_; intro w2 h2 g2)
        refine bodyPost_ret (results_none rfl _ _ _) rfl ?_
        exact ⟨rfl, h2, g2⟩
    | cons d b =>
      rw [if_neg (fun e => by cases e.2)]
      generalize (⟨t.toArray⟩ : ByteArray) = A at h ⊢
      obtain ⟨B, hB⟩ : ∃ B : ByteArray, (⟨(d :: b).toArray⟩ : ByteArray) = B := ⟨_, rfl⟩
      have hB' : B.data.toList = d :: b := by rw [← hB]
      have hne : ¬ B.toList = [] := fun e => by
        have := str_beq B ⟨#[]⟩
        rw [e, hB'] at this
        simp at this
      have hem : B.toList.isEmpty = false := by
        cases h : B.toList with
        | nil => exact absurd h hne
        | cons a l => rfl
      simp only at h ⊢
      rw [hB] at h ⊢
      have H := Lib.hid h
      obtain ⟨x0, x1, x2⟩ := floAt_cells h
      clear h hB hB'
      rcases hc with rfl | rfl | rfl | rfl | rfl
      all_goals
        go_enter Try.func40, Try.ntmps40
        go_wp2
        refine bodyPost_ret (results_none rfl _ _ _) rfl ?_
        exact ⟨rfl, H.out, grown_none (Below.refl _ _) _⟩
  · rw [if_neg (fun e => hn e.1)]
    generalize (⟨t.toArray⟩ : ByteArray) = A at h ⊢
    generalize (⟨b.toArray⟩ : ByteArray) = B at h ⊢
    have H := Lib.hid h
    obtain ⟨x0, x1, x2⟩ := floAt_cells h
    have b0 : ((n : Int) == 0) = false := by rw [beq_eq_false_iff_ne]; omega
    clear h
    rcases hc with rfl | rfl | rfl | rfl | rfl
    all_goals
      go_enter Try.func40, Try.ntmps40
      go_wp2
      refine bodyPost_ret (results_none rfl _ _ _) rfl ?_
      exact ⟨rfl, H.out, grown_none (Below.refl _ _) _⟩

theorem flo_told (A : ByteArray) (h : A.data.toList ≠ []) : ¬ A.toList = [] ∧ A.toList.isEmpty = false := by
  have hne : ¬ A.toList = [] := fun e => by
    have := str_beq A ⟨#[]⟩
    cases hl : A.data.toList with
    | nil => exact h hl
    | cons c t =>
      rw [e, hl] at this
      simp at this
  refine ⟨hne, ?_⟩
  cases h : A.toList with
  | nil => exact absurd h hne
  | cons a l => rfl
/-- the facts of a byte that is neither 0 nor a blank -/
theorem word_facts (c : UInt8) (h0 : c ≠ 0) (hb : blkB c = false) : (((c.toNat : Nat) : Int) == 0) = false ∧ (((c.toNat : Nat) : Int) == 9) = false ∧ (((c.toNat : Nat) : Int) == 10) = false ∧ (((c.toNat : Nat) : Int) == 12) = false ∧ (((c.toNat : Nat) : Int) == 13) = false ∧ (((c.toNat : Nat) : Int) == 32) = false := by
  have hk : ∀ d : UInt8, blkB d = true → c ≠ d := fun d hd e => by rw [← e, hb] at hd; cases hd
  have k : ∀ n : Nat, n < 256 → c ≠ UInt8.ofNat n → (((c.toNat : Nat) : Int) == (n : Int)) = false := fun n hn h => by
    rw [u8_test c n hn, beq_eq_false_iff_ne]; exact h
  exact ⟨k 0 (by decide) h0, k 9 (by decide) (hk 9 rfl), k 10 (by decide) (hk 10 rfl), k 12 (by decide) (hk 12 rfl), k 13 (by decide) (hk 13 rfl), k 32 (by decide) (hk 32 rfl)⟩
set_option maxRecDepth 100000 in
set_option maxHeartbeats 8000000 in
/-- a first word's byte -/
theorem put_first (g : Nat) (n : Nat) (b : Txt) (c : UInt8) (keep : Bool) (w : World) (h : FloIs 54 w g ⟨[], n, b⟩) (h0 : c ≠ 0) (hb : blkB c = false) :
    Calls Try.prog 40 #[.pointer (some ⟨g, 0, none⟩), .int .u8 ((c.toNat : Nat) : Int), .bool keep] w (PutIs g ⟨[c], 0, []⟩ w) := by
  obtain ⟨k0, k9, k10, k12, k13, k32⟩ := word_facts c h0 hb
  unfold PutIs FloIs at *
  simp only at h ⊢
  have h : FloAt 54 w g ⟨#[]⟩ n ⟨b.toArray⟩ := h
  generalize (⟨b.toArray⟩ : ByteArray) = B at h ⊢
  have H := Lib.hid h
  obtain ⟨x0, x1, x2⟩ := floAt_cells h
  have z0 := floAt_thawed h 0
  have zg := h.lt
  clear h
  obtain ⟨q, hq⟩ : ∃ q : Int, ((c.toNat : Nat) : Int) = q := ⟨_, rfl⟩
  have o1 := one_drew w q c hq
  rw [hq] at k0 k9 k10 k12 k13 k32 ⊢
  have g1 : ¬ 9223372036854775807 < (⟨#[]⟩ : ByteArray).size + 1 := by decide
  have hlt := c.toNat_lt
  have hq0 : 0 ≤ q := by omega
  have hq1 : q ≤ 255 := by omega
  obtain ⟨d, hd, hds⟩ : ∃ d : ByteArray, d = ⟨#[c]⟩ ∧ d.size = 1 := ⟨_, rfl, rfl⟩
  rw [← hd] at o1
  have F0 := Lib.hid (flo_drew (H.out.set 0 (.string d) (t' := d) (n' := n) (b' := B) rfl) (.cells #[.int .u8 q] 5))
  have HD := Lib.hid hd
  clear hq hd hlt h0 hb
  go_enter Try.func40, Try.ntmps40
  go_wp2
  go_region_with (fail)
  all_goals
    obtain ⟨f1, e1⟩ := F0.out
    have F1 := Lib.hid f1
    have E1 := Lib.hid e1
    clear f1 e1
    go_wp2_with (first
      | (refine wpList_store_flo 54 rfl 3 _ _ rfl g 1 _ d d n 0 B B rfl rfl F1.out (by decide) sizeIntF rfl rfl rfl ?_; intro w1 h1 g1; have H1 := Lib.hid h1; have G1 := Lib.hid g1; clear h1 g1)
      | (refine wpList_store_flo 54 rfl 9 _ _ rfl g 2 _ d d 0 0 B ⟨#[]⟩ rfl rfl H1.out (by decide) sizeStrF rfl rfl rfl ?_; intro w2 h2 g2))
    refine bodyPost_end (results_none rfl _ _ _) rfl ?_
    exact ⟨rfl, by rw [← HD.out]; exact h2, (E1.out.trans G1.out).trans g2⟩
end Go.Proofs.Ytappdjhhaohejaa
