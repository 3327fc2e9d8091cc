/-
  Texts laid together: UtfLaws, UtfRow, UtfJoin, UtfRefLeast.
-/
import Derived.Test.YtpmdcppnlggckaaGreatDoorUA
import Derived.Lib.Bytes
import Derived.Test.YtpmdcppnlggckaaGreatDoorQI
import Derived.Deep.RegionHeld3
import Derived.LoopN
/-! Small facts for the laws of layer 1: a text's bytes as a new row; what decoding gives of signs side by side. -/
namespace Go.Proofs.YtpmdcppnlggckaaGreatDoor
open Go.RowKit Go.Lib

/-- what '[]byte(s)' hands over (n: how long s is) -/
theorem isBytes_conv (w : World) (s : ByteArray) (n : Nat) (fr : Nat × Nat) (hn : s.size = n) (hm : n ≤ maxLen) :
    IsBytes (w.alloc (.cells (bytesRow s (grownCap w n 0 5)) 5 fr)).drew (.slice (some ⟨w.heap.size, 0, none⟩) n (grownCap w n 0 5)) s.data.toList := by
  subst hn
  refine .inr ⟨_, _, by rw [← size_eq], by rw [← size_eq]; exact grownCap_ge w s.size 0 _, grownCap_le_maxLen w s.size 0 _ hm, fun i hi => ?_⟩
  have e : (⟨w.heap.size, 0, none⟩ : Addr).add i = ⟨w.heap.size, i, none⟩ := by simp [Addr.add]; omega
  have hj : i < s.data.size := by simpa using hi
  rw [e]
  show (w.alloc _).cell? _ = _
  rw [World.cell?_alloc_mark, bytesRow_at s _ i hj]
  simp

theorem below_conv {B : Nat} {a w : World} (h : Below B a w) (hB : B ≤ w.heap.size) (o : Obj) : Below B a (w.alloc o).drew := (h.alloc hB o).drew

theorem named (l : List UInt8) : ∃ A : ByteArray, (⟨l.toArray⟩ : ByteArray) = A ∧ A.data.toList = l ∧ A.size = l.length := ⟨_, rfl, strL l, strSize l⟩
/-! ### signs in their order -/
end Go.Proofs.YtpmdcppnlggckaaGreatDoor

/-! What comes in as a list of bytes, as a list; what the document's Begins answers. -/
namespace Go.Proofs.YtpmdcppnlggckaaGreatDoor
open Go.RowKit Go.Lib

/-- a row of bytes that came in reads as a list of bytes -/
theorem isBytes_row {w : World} {a : Option Addr} {len cap : Nat} {zs : List Int}
    (h : (a = none ∧ len = 0 ∧ cap = 0 ∧ zs = []) ∨ ∃ x, a = some x ∧ len ≤ cap ∧ cap ≤ maxLen ∧ zs.length = cap ∧ (∀ i, i < zs.length → w.cell? (x.add i) = some (.int .u8 (zs.getD i 0))) ∧ ∀ n ∈ zs, (Lit.int .u8 n).wf = true) :
    ∃ l : List UInt8, l.length = len ∧ IsBytes w (.slice a len cap) l := by
  rcases h with ⟨rfl, rfl, rfl, rfl⟩ | ⟨x, rfl, hl, hm, hz, hcell, hwf⟩
  · exact ⟨[], rfl, .inl ⟨rfl, rfl⟩⟩
  · have hlen : (bytesOf (zs.take len)).length = len := by rw [bytesOf_length, List.length_take]; omega
    refine ⟨bytesOf (zs.take len), hlen, .inr ⟨x, cap, by rw [hlen], by rw [hlen]; exact hl, hm, fun i hi => ?_⟩⟩
    rw [hlen] at hi
    have hi' : i < zs.length := by omega
    have hw := hwf zs[i] (List.getElem_mem hi')
    have hb : 0 ≤ zs[i] ∧ zs[i] ≤ 255 := by simpa [Lit.wf, IntKind.min, IntKind.max, IntKind.signed, IntKind.bits] using hw
    have e : zs.getD i 0 = zs[i] := by rw [List.getD_eq_getElem?_getD, List.getElem?_eq_getElem hi']; rfl
    rw [hcell i hi', e]
    have g : ((bytesOf (zs.take len))[i]'(by rw [hlen]; exact hi)) = UInt8.ofNat zs[i].toNat := by simp [bytesOf]
    rw [g]
    have : (UInt8.ofNat zs[i].toNat).toNat = zs[i].toNat := by
      have := u8nat zs[i] hb.1 (by omega)
      simpa [Nat.toUInt8] using this
    rw [this]
    congr 2
    omega
/-- it stays one behind whatever lies below -/
theorem IsBytes.below {w w' : World} {v : Value} {l : List UInt8} (h : IsBytes w v l) (hlt : ∀ x, v.ownBlock = some x → x < w.heap.size) (hb : Below w.heap.size w w') : IsBytes w' v l := by
  rcases h with h | ⟨x, cap, rfl, hl, hc, hcell⟩
  · exact .inl h
  · refine .inr ⟨x, cap, rfl, hl, hc, fun i hi => ?_⟩
    rw [hb.cell (p := x.add i) (by have := hlt x.block rfl; unfold Addr.add; split <;> exact this)]
    exact hcell i hi
theorem row_low {w : World} {a : Option Addr} {len cap : Nat} {l : List UInt8} (h : IsBytes w (.slice a len cap) l) : ∀ x, (Value.slice a len cap).ownBlock = some x → x < w.heap.size ∨ l = [] := by
  intro x hx
  rcases h with ⟨_, h⟩ | ⟨y, cap, hv, hl, hc, hcell⟩
  · exact .inr h
  · cases l with
    | nil => exact .inr rfl
    | cons b t =>
      left
      injection hv with h1 h2 h3
      subst h1
      have := hcell 0 (by simp)
      have hx' : y.block = x := by simpa [Value.ownBlock] using hx
      subst hx'
      rw [show y.add 0 = y by simp [Addr.add]] at this
      rcases Nat.lt_or_ge y.block w.heap.size with h' | h'
      · exact h'
      · simp [World.cell?, Array.getElem?_eq_none h'] at this
/-- what came in stays what it is while only new memory is made -/
theorem IsBytes.kept {w w' : World} {a : Option Addr} {len cap : Nat} {l : List UInt8} (h : IsBytes w (.slice a len cap) l) (hb : Below w.heap.size w w') : IsBytes w' (.slice a len cap) l := by
  by_cases hl : l = []
  · subst hl
    rcases h with h | ⟨x, c, hv, h1, h2, _⟩
    · exact .inl h
    · exact .inr ⟨x, c, hv, h1, h2, fun i hi => absurd hi (by simp)⟩
  · exact h.below (fun x hx => (row_low h x hx).resolve_right hl) hb
theorem IsBytes.conv_kept {w w' : World} {a : Option Addr} {len cap : Nat} {l : List UInt8} (h : IsBytes w (.slice a len cap) l) (hb : Below w.heap.size w w') :
    (convert 22 9 (.slice a len cap)).run Tryz.prog w' = .ok (.string ⟨l.toArray⟩) w' := (h.kept hb).conv

set_option maxRecDepth 100000 in
/-- Begins: does a text begin with another one -/
theorem begins_any (s t : ByteArray) (w : World) :
    Calls Tryz.prog 13 #[.string s, .string t] w fun e w' => e = .returned (.bool (hasPrefix s.data.toList t.data.toList)) ∧ w = w' := by
  by_cases h : s.size < t.size
  · have E : Hid (hasPrefix s.data.toList t.data.toList = false) := Lib.hid (by
      rw [Bool.eq_false_iff]
      intro hp
      unfold hasPrefix at hp
      rw [List.isPrefixOf_iff_prefix] at hp
      have := hp.length_le
      rw [← size_eq, ← size_eq] at this
      omega)
    go_enter Tryz.func13, Tryz.ntmps13
    go_wp2
    go_ret
    exact ⟨ret_bool (by rw [E.out]), rfl⟩
  · have h' : t.size ≤ s.size := by omega
    go_enter Tryz.func13, Tryz.ntmps13
    go_wp2
    go_ret
    exact ⟨ret_bool (by
      rw [ByteArray.toList_eq, ByteArray.toList_eq, extract_data, Bool.eq_iff_iff, beq_iff_eq]
      unfold hasPrefix
      rw [List.isPrefixOf_iff_prefix, List.prefix_iff_eq_take, ← size_eq, List.drop_zero, Nat.sub_zero]
      exact ⟨fun h => h.symm, fun h => h.symm⟩), rfl⟩

theorem IsBytes.cap {w : World} {a : Option Addr} {len cap : Nat} {l : List UInt8} (h : IsBytes w (.slice a len cap) l) : l.length = len ∧ len ≤ cap := by
  rcases h with ⟨hv, rfl⟩ | ⟨x, c, hv, h1, h2, _⟩
  · injection hv with h1 h2 h3; subst h2; exact ⟨rfl, Nat.zero_le _⟩
  · injection hv with h3 h4 h5; subst h4; subst h5; exact ⟨rfl, h1⟩
/-- a list cut off ahead, as the walk spells it -/
theorem IsBytes.cut {w : World} {a : Option Addr} {len cap : Nat} {l : List UInt8} (h : IsBytes w (.slice a len cap) l) (k : Nat) (hk0 : 0 < k) (hk : k ≤ len) (_hc : cap ≠ k) :
    IsBytes w (.slice (Option.map (fun x => { block := x.block, off := x.off + k }) a) (len - k) (cap - k)) (l.drop k) := by
  rcases h with ⟨hv, rfl⟩ | ⟨x, c, hv, h1, h2, h3⟩
  · injection hv with h4 h5 h6; subst h5; omega
  · injection hv with h4 h5 h6
    subst h4; subst h5; subst h6
    refine .inr ⟨⟨x.block, x.off + k, none⟩, cap - k, ?_, ?_, by omega, fun i hi => ?_⟩
    · rw [List.length_drop]; rfl
    · rw [List.length_drop]; omega
    · rw [List.length_drop] at hi
      have := h3 (k + i) (by omega)
      rw [List.getElem_drop, ← this]
      congr 1
      unfold Addr.add
      by_cases h0 : i = 0
      · subst h0; simp; intro h; omega
      · simp [h0]; omega
end Go.Proofs.YtpmdcppnlggckaaGreatDoor

/-! Small facts for the laws of layer 1 that join bytes: what is right side by side, a byte that can't be one between; rows of bytes that the law itself makes. -/
namespace Go.Proofs.YtpmdcppnlggckaaGreatDoor
open Go.RowKit Go.Lib

/-- what '[]byte(s)' makes, as a row of the call's own -/
theorem OwnsG.conv (w : World) (s : ByteArray) (n base : Nat) (hn : s.size = n) (hm : n ≤ maxLen) (hb : base ≤ w.heap.size) (fz : Nat × Nat) (hf : fz.1 = (bytesRow s (grownCap w n 0 5)).size) :
    OwnsG (w.alloc (.cells (bytesRow s (grownCap w n 0 5)) 5 fz)).drew base 5 1 (.slice (some ⟨w.heap.size, 0, none⟩) n (grownCap w n 0 5)) n (Lib.byteCells s.data.toList) := by
  have hge := grownCap_ge w n 0 5
  have hsz : (bytesRow s (grownCap w n 0 5)).size = grownCap w n 0 5 * 1 := by
    have : s.data.size = n := hn
    simp [bytesRow, this, hn]; omega
  have := OwnsG.new w (bytesRow s (grownCap w n 0 5)) fz base 5 1 n (grownCap w n 0 5) hb (.inr (by rw [hf, hsz]; exact Nat.le_refl _)) hge (grownCap_le_maxLen w n 0 _ hm) hsz
  have e : (bytesRow s (grownCap w n 0 5)).toList.take (n * 1) = Lib.byteCells s.data.toList := by
    have h1 : s.data.toList.length = n := by rw [← size_eq]; exact hn
    unfold bytesRow
    rw [Array.toList_append, Array.toList_map, Nat.mul_one, List.take_append_of_le_length (by simp [h1]), List.take_of_length_le (by simp [h1])]
    rfl
  rw [e] at this
  exact this.drew
/-- the cells of a list of bytes that isn't empty -/
theorem IsBytes.cell {w : World} {a : Option Addr} {len cap : Nat} {l : List UInt8} (h : IsBytes w (.slice a len cap) l) (hl : 0 < len) :
    ∃ x : Addr, a = some x ∧ ∀ i (hi : i < l.length), w.cell? (x.add i) = some (.int .u8 ((l[i]'hi).toNat : Int)) := by
  rcases h with ⟨hv, rfl⟩ | ⟨x, c, hv, h1, h2, h3⟩
  · injection hv with h4 h5 h6; omega
  · injection hv with h4 h5 h6
    exact ⟨x, h4, h3⟩
theorem IsBytes.cellAt {w : World} {x : Addr} {len cap : Nat} {l : List UInt8} (h : IsBytes w (.slice (some x) len cap) l) (k : Nat) (hk : k < len) :
    w.cell? (x.add k) = some (.int .u8 ((l.getD k 0).toNat : Int)) := by
  have hl := h.cap.1
  obtain ⟨y, hy, hc⟩ := h.cell (by omega)
  injection hy with hy
  subst hy
  rw [hc k (by omega), List.getD_eq_getElem?_getD, List.getElem?_eq_getElem (by omega)]
  rfl
end Go.Proofs.YtpmdcppnlggckaaGreatDoor

/-! What the document's 'least' of layer 1 answers: of one byte, and of as many as a sign may have, told byte by byte. -/
namespace Go.Proofs.YtpmdcppnlggckaaGreatDoor
open Go.RowKit Go.Lib

end Go.Proofs.YtpmdcppnlggckaaGreatDoor
