/-
  Texts laid together: UtfLaws, UtfRow, UtfJoin, UtfRefLeast.
-/
import Derived.Test.YtbcmfcddkegcoaaGreatDoorUA
import Derived.Lib.Bytes
import Derived.Test.YtbcmfcddkegcoaaGreatDoorQI
import Derived.Deep.RegionHeld3
import Derived.LoopN
/-! Small facts for the laws of layer 1: a text's bytes as a new row; what decoding gives of signs side by side. -/
namespace Go.Proofs.YtbcmfcddkegcoaaGreatDoor
open Go.RowKit Go.Lib

/-- what '[]byte(s)' hands over (n: how long s is) -/
theorem isBytes_conv (w : World) (s : ByteArray) (n : Nat) (fr : Nat × Nat) (hn : s.size = n) (hm : n ≤ maxLen) :
    IsBytes (w.alloc (.cells (bytesRow s (grownCap w n 0 5)) 5 fr)).drew (.slice (some ⟨w.heap.size, 0, none⟩) n (grownCap w n 0 5)) s.data.toList := by
  subst hn
  refine .inr ⟨_, _, by rw [← size_eq], by rw [← size_eq]; exact grownCap_ge w s.size 0 _, grownCap_le_maxLen w s.size 0 _ hm, fun i hi => ?_⟩
  have e : (⟨w.heap.size, 0, none⟩ : Addr).add i = ⟨w.heap.size, i, none⟩ := by simp [Addr.add]; omega
  have hj : i < s.data.size := by simpa using hi
  rw [e]
  show (w.alloc _).cell? _ = _
  rw [World.cell?_alloc_mark, bytesRow_at s _ i hj]
  simp

theorem below_conv {B : Nat} {a w : World} (h : Below B a w) (hB : B ≤ w.heap.size) (o : Obj) : Below B a (w.alloc o).drew := (h.alloc hB o).drew

/-! ### signs in their order -/
end Go.Proofs.YtbcmfcddkegcoaaGreatDoor

/-! What comes in as a list of bytes, as a list; what the document's Begins answers. -/
namespace Go.Proofs.YtbcmfcddkegcoaaGreatDoor
open Go.RowKit Go.Lib

/-- it stays one behind whatever lies below -/
theorem IsBytes.below {w w' : World} {v : Value} {l : List UInt8} (h : IsBytes w v l) (hlt : ∀ x, v.ownBlock = some x → x < w.heap.size) (hb : Below w.heap.size w w') : IsBytes w' v l := by
  rcases h with h | ⟨x, cap, rfl, hl, hc, hcell⟩
  · exact .inl h
  · refine .inr ⟨x, cap, rfl, hl, hc, fun i hi => ?_⟩
    rw [hb.cell (p := x.add i) (by have := hlt x.block rfl; unfold Addr.add; split <;> exact this)]
    exact hcell i hi
theorem row_low {w : World} {a : Option Addr} {len cap : Nat} {l : List UInt8} (h : IsBytes w (.slice a len cap) l) : ∀ x, (Value.slice a len cap).ownBlock = some x → x < w.heap.size ∨ l = [] := by
  intro x hx
  rcases h with ⟨_, h⟩ | ⟨y, cap, hv, hl, hc, hcell⟩
  · exact .inr h
  · cases l with
    | nil => exact .inr rfl
    | cons b t =>
      left
      injection hv with h1 h2 h3
      subst h1
      have := hcell 0 (by simp)
      have hx' : y.block = x := by simpa [Value.ownBlock] using hx
      subst hx'
      rw [show y.add 0 = y by simp [Addr.add]] at this
      rcases Nat.lt_or_ge y.block w.heap.size with h' | h'
      · exact h'
      · simp [World.cell?, Array.getElem?_eq_none h'] at this
/-- what came in stays what it is while only new memory is made -/
theorem IsBytes.kept {w w' : World} {a : Option Addr} {len cap : Nat} {l : List UInt8} (h : IsBytes w (.slice a len cap) l) (hb : Below w.heap.size w w') : IsBytes w' (.slice a len cap) l := by
  by_cases hl : l = []
  · subst hl
    rcases h with h | ⟨x, c, hv, h1, h2, _⟩
    · exact .inl h
    · exact .inr ⟨x, c, hv, h1, h2, fun i hi => absurd hi (by simp)⟩
  · exact h.below (fun x hx => (row_low h x hx).resolve_right hl) hb
theorem IsBytes.cap {w : World} {a : Option Addr} {len cap : Nat} {l : List UInt8} (h : IsBytes w (.slice a len cap) l) : l.length = len ∧ len ≤ cap := by
  rcases h with ⟨hv, rfl⟩ | ⟨x, c, hv, h1, h2, _⟩
  · injection hv with h1 h2 h3; subst h2; exact ⟨rfl, Nat.zero_le _⟩
  · injection hv with h3 h4 h5; subst h4; subst h5; exact ⟨rfl, h1⟩
/-- a list cut off ahead, as the walk spells it -/
theorem IsBytes.cut {w : World} {a : Option Addr} {len cap : Nat} {l : List UInt8} (h : IsBytes w (.slice a len cap) l) (k : Nat) (hk0 : 0 < k) (hk : k ≤ len) (_hc : cap ≠ k) :
    IsBytes w (.slice (Option.map (fun x => { block := x.block, off := x.off + k }) a) (len - k) (cap - k)) (l.drop k) := by
  rcases h with ⟨hv, rfl⟩ | ⟨x, c, hv, h1, h2, h3⟩
  · injection hv with h4 h5 h6; subst h5; omega
  · injection hv with h4 h5 h6
    subst h4; subst h5; subst h6
    refine .inr ⟨⟨x.block, x.off + k, none⟩, cap - k, ?_, ?_, by omega, fun i hi => ?_⟩
    · rw [List.length_drop]; rfl
    · rw [List.length_drop]; omega
    · rw [List.length_drop] at hi
      have := h3 (k + i) (by omega)
      rw [List.getElem_drop, ← this]
      congr 1
      unfold Addr.add
      by_cases h0 : i = 0
      · subst h0; simp; intro h; omega
      · simp [h0]; omega
end Go.Proofs.YtbcmfcddkegcoaaGreatDoor

/-! Small facts for the laws of layer 1 that join bytes: what is right side by side, a byte that can't be one between; rows of bytes that the law itself makes. -/
namespace Go.Proofs.YtbcmfcddkegcoaaGreatDoor
open Go.RowKit Go.Lib

/-- what '[]byte(s)' makes, as a row of the call's own -/
theorem OwnsG.conv (w : World) (s : ByteArray) (n base : Nat) (hn : s.size = n) (hm : n ≤ maxLen) (hb : base ≤ w.heap.size) (fz : Nat × Nat) (hf : fz.1 = (bytesRow s (grownCap w n 0 5)).size) :
    OwnsG (w.alloc (.cells (bytesRow s (grownCap w n 0 5)) 5 fz)).drew base 5 1 (.slice (some ⟨w.heap.size, 0, none⟩) n (grownCap w n 0 5)) n (Lib.byteCells s.data.toList) := by
  have hge := grownCap_ge w n 0 5
  have hsz : (bytesRow s (grownCap w n 0 5)).size = grownCap w n 0 5 * 1 := by
    have : s.data.size = n := hn
    simp [bytesRow, this, hn]; omega
  have := OwnsG.new w (bytesRow s (grownCap w n 0 5)) fz base 5 1 n (grownCap w n 0 5) hb (.inr (by rw [hf, hsz]; exact Nat.le_refl _)) hge (grownCap_le_maxLen w n 0 _ hm) hsz
  have e : (bytesRow s (grownCap w n 0 5)).toList.take (n * 1) = Lib.byteCells s.data.toList := by
    have h1 : s.data.toList.length = n := by rw [← size_eq]; exact hn
    unfold bytesRow
    rw [Array.toList_append, Array.toList_map, Nat.mul_one, List.take_append_of_le_length (by simp [h1]), List.take_of_length_le (by simp [h1])]
    rfl
  rw [e] at this
  exact this.drew
/-- the cells of a list of bytes that isn't empty -/
theorem IsBytes.cell {w : World} {a : Option Addr} {len cap : Nat} {l : List UInt8} (h : IsBytes w (.slice a len cap) l) (hl : 0 < len) :
    ∃ x : Addr, a = some x ∧ ∀ i (hi : i < l.length), w.cell? (x.add i) = some (.int .u8 ((l[i]'hi).toNat : Int)) := by
  rcases h with ⟨hv, rfl⟩ | ⟨x, c, hv, h1, h2, h3⟩
  · injection hv with h4 h5 h6; omega
  · injection hv with h4 h5 h6
    exact ⟨x, h4, h3⟩
end Go.Proofs.YtbcmfcddkegcoaaGreatDoor

/-! What the document's 'least' of layer 1 answers: of one byte, and of as many as a sign may have, told byte by byte. -/
namespace Go.Proofs.YtbcmfcddkegcoaaGreatDoor
open Go.RowKit Go.Lib

end Go.Proofs.YtbcmfcddkegcoaaGreatDoor
