/-
  Small facts for the laws of layer 1 that join bytes: what is right side by side, a byte that can't be one between; rows of bytes that the law itself makes.
-/
import Derived.Test.YtnbafhaajckdcaaDoorUtfRow
import Derived.Test.YtnbafhaajckdcaaDoorOwns
import Derived.Deep.RegionHeld3
namespace Go.Proofs.YtnbafhaajckdcaaDoor
open Go.RowKit Go.Lib

theorem brk_right (a : List UInt8) (hne : a ≠ []) (hv : validD a = true) : brk a = false := by
  rw [validD_brk a hne] at hv
  cases hk : brk a with
  | true => rw [hk] at hv; simp at hv
  | false => rfl
theorem join_dec (a b : List UInt8) (hne : a ≠ []) (hm : hasPrefix a markL = false) (ha : validD a = true) (hb : validD b = true) : dec (a ++ b) = a ++ b := by
  rw [dec_plain _ (by rw [mark_keep a b hne (brk_right a hne ha)]; exact hm), dec0_right b a.length a (Nat.le_refl _) ha, dec0_same b hb]
theorem join_right (a b : List UInt8) (ha : validD a = true) (hb : validD b = true) : validD (a ++ b) = true := by
  rw [validD_right b a.length a (Nat.le_refl _) ha]; exact hb
theorem join_dec_bad (a b : List UInt8) (c : UInt8) (hc : NoByte c) (hne : a ≠ []) (hm : hasPrefix a markL = false) (ha : validD a = true) (hb : validD b = true) :
    dec (a ++ c :: b) = a ++ (badL ++ b) := by
  rw [dec_plain _ (by rw [mark_keep a (c :: b) hne (brk_right a hne ha)]; exact hm), dec0_right (c :: b) a.length a (Nat.le_refl _) ha, dec0_noByte c b hc, dec0_same b hb]
theorem join_wrong (a b : List UInt8) (c : UInt8) (hc : NoByte c) (ha : validD a = true) : validD (a ++ c :: b) = false := by
  rw [validD_right (c :: b) a.length a (Nat.le_refl _) ha]; exact validD_noByte c b hc

/-- the thirteen bytes that can't be one -/
def noneL : List UInt8 := [192, 193, 245, 246, 247, 248, 249, 250, 251, 252, 253, 254, 255]
theorem noneL_no : ∀ k : Fin 13, (noneL.getD k.val 0).toNat = 192 ∨ (noneL.getD k.val 0).toNat = 193 ∨ 245 ≤ (noneL.getD k.val 0).toNat := by decide

/-- a row of bytes that the law made is a list of bytes -/
theorem OwnsG.isBytes {w : World} {base : Nat} {v : Value} {l : List UInt8} (h : OwnsG w base 5 1 v l.length (Lib.byteCells l)) : IsBytes w v l := by
  obtain ⟨a, cap, rfl, hn, hm⟩ := h.form
  rcases h.2 with ⟨hv, h0⟩ | ⟨g, cap', cur, fz, hv, hb, hg, _⟩
  · exact .inl ⟨by rw [hv], List.eq_nil_of_length_eq_zero h0⟩
  · injection hv with h1 h2 h3
    subst h1; subst h3
    refine .inr ⟨⟨g, 0, none⟩, cap, rfl, hn, hm, fun i hi => ?_⟩
    refine h.cells (g := g) rfl i _ ?_
    simp [Lib.byteCells, hi]
/-- what '[]byte(s)' makes, as a row of the call's own -/
theorem OwnsG.conv (w : World) (s : ByteArray) (n base : Nat) (hn : s.size = n) (hm : n ≤ maxLen) (hb : base ≤ w.heap.size) (fz : Nat × Nat) (hf : fz.1 = (bytesRow s (grownCap w n 0 5)).size) :
    OwnsG (w.alloc (.cells (bytesRow s (grownCap w n 0 5)) 5 fz)).drew base 5 1 (.slice (some ⟨w.heap.size, 0, none⟩) n (grownCap w n 0 5)) n (Lib.byteCells s.data.toList) := by
  have hge := grownCap_ge w n 0 5
  have hsz : (bytesRow s (grownCap w n 0 5)).size = grownCap w n 0 5 * 1 := by
    have : s.data.size = n := hn
    simp [bytesRow, this, hn]; omega
  have := OwnsG.new w (bytesRow s (grownCap w n 0 5)) fz base 5 1 n (grownCap w n 0 5) hb (.inr (by rw [hf, hsz]; exact Nat.le_refl _)) hge (grownCap_le_maxLen w n 0 _ hm) hsz
  have e : (bytesRow s (grownCap w n 0 5)).toList.take (n * 1) = Lib.byteCells s.data.toList := by
    have h1 : s.data.toList.length = n := by rw [← size_eq]; exact hn
    unfold bytesRow
    rw [Array.toList_append, Array.toList_map, Nat.mul_one, List.take_append_of_le_length (by simp [h1]), List.take_of_length_le (by simp [h1])]
    rfl
  rw [e] at this
  exact this.drew
/-- a source of bytes, for append -/
theorem src_bytes {w : World} {v : Value} {l : List UInt8} (h : IsBytes w v l) : Src Tryd.prog 1 49 v l.length (Lib.byteCells l) w := by
  rcases h with ⟨rfl, rfl⟩ | ⟨x, cap, rfl, hl, hc, hcell⟩
  · exact Src.ofNil w Tryd.underlying49 0
  · refine Src.ofSlice w Tryd.underlying49 x l.length cap (Lib.byteCells l) (by simp [Lib.byteCells]) (fun j u hj => ?_) (fun u hu => ?_)
    · have hj' : j < l.length := by have := (List.getElem?_eq_some_iff.1 hj).1; simpa [Lib.byteCells] using this
      rw [hcell j hj']
      simpa [Lib.byteCells, hj'] using hj
    · obtain ⟨b, _, rfl⟩ := List.mem_map.1 hu
      rfl
theorem src_at {w : World} {v : Value} {l : List UInt8} {n : Nat} (h : IsBytes w v l) (hn : l.length = n) : Src Tryd.prog 1 49 v n (Lib.byteCells l) w := by
  subst hn; exact src_bytes h
theorem src_str {w : World} (s : ByteArray) : Src Tryd.prog 1 9 (.string s) s.size (Lib.byteCells s.data.toList) w := Src.ofString w Tryd.underlying9 s
theorem byteInfo : (Tryd.prog.info? 5).map (fun i => (i.zero, i.size, i.bytes)) = some (some (.int .u8 0), 1, 1) := by kernel_rfl

/-- a new row of bytes, its block told by its number -/
theorem isBytes_at (w : World) (g : Nat) (hg : w.heap.size = g) (C : Array Value) (t : TypeId) (l : List UInt8) (n : Nat) (hn : l.length = n) (h : C.toList = Lib.byteCells l) (hm : n ≤ maxLen) :
    IsBytes (w.alloc (.cells C t)).drew (.slice (some ⟨g, 0, none⟩) n n) l := by
  subst hg; subst hn; exact isBytes_new w C t l h hm
theorem OwnsG.conv_at (w : World) (g : Nat) (hg : w.heap.size = g) (s : ByteArray) (n base : Nat) (hn : s.size = n) (hm : n ≤ maxLen) (hb : base ≤ w.heap.size) (o : Obj) :
    OwnsG ((w.alloc (.cells (bytesRow s (grownCap w n 0 5)) 5 ((bytesRow s (grownCap w n 0 5)).size, (bytesRow s (grownCap w n 0 5)).size + 1))).alloc o).drew base 5 1
      (.slice (some ⟨g, 0, none⟩) n (grownCap w n 0 5)) n (Lib.byteCells s.data.toList) := by
  subst hg
  exact ((OwnsG.conv w s n base hn hm hb _ rfl).alloc o)

/-- a new row of bytes, as a row of the call's own -/
theorem OwnsG.made (w : World) (g : Nat) (hg : w.heap.size = g) (C : Array Value) (l : List UInt8) (n base : Nat) (hn : l.length = n) (h : C.toList = Lib.byteCells l) (hm : n ≤ maxLen) (hb : base ≤ w.heap.size) :
    OwnsG (w.alloc (.cells C 5)) base 5 1 (.slice (some ⟨g, 0, none⟩) n n) n (Lib.byteCells l) := by
  subst hg; subst hn
  have hc : C.size = l.length := by rw [← Array.length_toList, h]; simp [Lib.byteCells]
  have := OwnsG.new w C (0, 0) base 5 1 l.length l.length hb (.inl (Nat.zero_le _)) (Nat.le_refl _) hm (by omega)
  have e : C.toList.take (l.length * 1) = Lib.byteCells l := by rw [h, List.take_of_length_le (by simp [Lib.byteCells])]
  rwa [e] at this

theorem parts_dec (a t : List UInt8) (ht : t = [] ∨ (t.getD 0 0).toNat < 128) : dec (a ++ t) = dec a ++ dec0 t := by
  cases hm : hasPrefix a markL with
  | false => rw [dec_plain _ (by rw [mark_app a t ht]; exact hm), dec_plain a hm, dec0_app t ht _ a (Nat.le_refl _)]
  | true =>
    rw [dec_mark _ (by rw [mark_app a t ht]; exact hm), dec_mark a hm]
    obtain ⟨u, rfl⟩ := (hasMark a).1 hm
    rw [List.append_assoc]
    show dec0 (u ++ t) = dec0 u ++ dec0 t
    exact dec0_app t ht _ u (Nat.le_refl _)
theorem parts_right (a b : List UInt8) (x : UInt8) (hx : x.toNat < 128) : validD (a ++ x :: b) = (validD a && validD b) := by
  rw [validD_app (x :: b) (.inr hx) _ a (Nat.le_refl _), validD_cons x b hx]

/-- the row of the thirteen bytes -/
def noneC : Array Value := #[.int .u8 192, .int .u8 193, .int .u8 245, .int .u8 246, .int .u8 247, .int .u8 248, .int .u8 249, .int .u8 250, .int .u8 251, .int .u8 252, .int .u8 253, .int .u8 254, .int .u8 255]
theorem noneC_cells : noneC.toList = Lib.byteCells noneL := rfl
theorem none_cell (w : World) (o : Obj) (k : Nat) (hk : k < 13) : ((w.alloc (.cells noneC 5)).alloc o).cell? ⟨w.heap.size, k, none⟩ = some (.int .u8 ((noneL.getD k 0).toNat : Int)) := by
  rw [World.cell?_alloc_lt _ o ⟨w.heap.size, k, none⟩ (by simp), World.cell?_alloc_mark, ← Array.getElem?_toList, noneC_cells, Lib.byteCells, List.getElem?_map]
  have : k < noneL.length := hk
  rw [List.getElem?_eq_getElem this, List.getD_eq_getElem?_getD, List.getElem?_eq_getElem this]
  rfl

end Go.Proofs.YtnbafhaajckdcaaDoor
