/-
  What comes in as a list of bytes, as a list; what the document's Begins answers.
-/
import Derived.Test.YtbcmfcddkegcoaaDoorUtfLaws
import Derived.Lib.Bytes
namespace Go.Proofs.YtbcmfcddkegcoaaDoor
open Go.RowKit Go.Lib

/-- a row of bytes that came in reads as a list of bytes -/
theorem isBytes_row {w : World} {a : Option Addr} {len cap : Nat} {zs : List Int}
    (h : (a = none ∧ len = 0 ∧ cap = 0 ∧ zs = []) ∨ ∃ x, a = some x ∧ len ≤ cap ∧ cap ≤ maxLen ∧ zs.length = cap ∧ (∀ i, i < zs.length → w.cell? (x.add i) = some (.int .u8 (zs.getD i 0))) ∧ ∀ n ∈ zs, (Lit.int .u8 n).wf = true) :
    ∃ l : List UInt8, l.length = len ∧ IsBytes w (.slice a len cap) l := by
  rcases h with ⟨rfl, rfl, rfl, rfl⟩ | ⟨x, rfl, hl, hm, hz, hcell, hwf⟩
  · exact ⟨[], rfl, .inl ⟨rfl, rfl⟩⟩
  · have hlen : (bytesOf (zs.take len)).length = len := by rw [bytesOf_length, List.length_take]; omega
    refine ⟨bytesOf (zs.take len), hlen, .inr ⟨x, cap, by rw [hlen], by rw [hlen]; exact hl, hm, fun i hi => ?_⟩⟩
    rw [hlen] at hi
    have hi' : i < zs.length := by omega
    have hw := hwf zs[i] (List.getElem_mem hi')
    have hb : 0 ≤ zs[i] ∧ zs[i] ≤ 255 := by simpa [Lit.wf, IntKind.min, IntKind.max, IntKind.signed, IntKind.bits] using hw
    have e : zs.getD i 0 = zs[i] := by rw [List.getD_eq_getElem?_getD, List.getElem?_eq_getElem hi']; rfl
    rw [hcell i hi', e]
    have g : ((bytesOf (zs.take len))[i]'(by rw [hlen]; exact hi)) = UInt8.ofNat zs[i].toNat := by simp [bytesOf]
    rw [g]
    have : (UInt8.ofNat zs[i].toNat).toNat = zs[i].toNat := by
      have := u8nat zs[i] hb.1 (by omega)
      simpa [Nat.toUInt8] using this
    rw [this]
    congr 2
    omega
/-- it stays one behind whatever lies below -/
theorem IsBytes.below {w w' : World} {v : Value} {l : List UInt8} (h : IsBytes w v l) (hlt : ∀ x, v.ownBlock = some x → x < w.heap.size) (hb : Below w.heap.size w w') : IsBytes w' v l := by
  rcases h with h | ⟨x, cap, rfl, hl, hc, hcell⟩
  · exact .inl h
  · refine .inr ⟨x, cap, rfl, hl, hc, fun i hi => ?_⟩
    rw [hb.cell (p := x.add i) (by have := hlt x.block rfl; unfold Addr.add; split <;> exact this)]
    exact hcell i hi
theorem row_low {w : World} {a : Option Addr} {len cap : Nat} {l : List UInt8} (h : IsBytes w (.slice a len cap) l) : ∀ x, (Value.slice a len cap).ownBlock = some x → x < w.heap.size ∨ l = [] := by
  intro x hx
  rcases h with ⟨_, h⟩ | ⟨y, cap, hv, hl, hc, hcell⟩
  · exact .inr h
  · cases l with
    | nil => exact .inr rfl
    | cons b t =>
      left
      injection hv with h1 h2 h3
      subst h1
      have := hcell 0 (by simp)
      have hx' : y.block = x := by simpa [Value.ownBlock] using hx
      subst hx'
      rw [show y.add 0 = y by simp [Addr.add]] at this
      rcases Nat.lt_or_ge y.block w.heap.size with h' | h'
      · exact h'
      · simp [World.cell?, Array.getElem?_eq_none h'] at this
/-- what came in stays what it is while only new memory is made -/
theorem IsBytes.kept {w w' : World} {a : Option Addr} {len cap : Nat} {l : List UInt8} (h : IsBytes w (.slice a len cap) l) (hb : Below w.heap.size w w') : IsBytes w' (.slice a len cap) l := by
  by_cases hl : l = []
  · subst hl
    rcases h with h | ⟨x, c, hv, h1, h2, _⟩
    · exact .inl h
    · exact .inr ⟨x, c, hv, h1, h2, fun i hi => absurd hi (by simp)⟩
  · exact h.below (fun x hx => (row_low h x hx).resolve_right hl) hb
theorem IsBytes.conv_kept {w w' : World} {a : Option Addr} {len cap : Nat} {l : List UInt8} (h : IsBytes w (.slice a len cap) l) (hb : Below w.heap.size w w') :
    (convert 29 9 (.slice a len cap)).run Tryd.prog w' = .ok (.string ⟨l.toArray⟩) w' := (h.kept hb).conv

set_option maxRecDepth 100000 in
/-- Begins: does a text begin with another one -/
theorem begins_any (s t : ByteArray) (w : World) :
    Calls Tryd.prog 6 #[.string s, .string t] w fun e w' => e = .returned (.bool (hasPrefix s.data.toList t.data.toList)) ∧ w = w' := by
  by_cases h : s.size < t.size
  · have E : Hid (hasPrefix s.data.toList t.data.toList = false) := Lib.hid (by
      rw [Bool.eq_false_iff]
      intro hp
      unfold hasPrefix at hp
      rw [List.isPrefixOf_iff_prefix] at hp
      have := hp.length_le
      rw [← size_eq, ← size_eq] at this
      omega)
    go_enter Tryd.func6, Tryd.ntmps6
    go_wp2
    go_ret
    exact ⟨ret_bool (by rw [E.out]), rfl⟩
  · have h' : t.size ≤ s.size := by omega
    go_enter Tryd.func6, Tryd.ntmps6
    go_wp2
    go_ret
    exact ⟨ret_bool (by
      rw [ByteArray.toList_eq, ByteArray.toList_eq, extract_data, Bool.eq_iff_iff, beq_iff_eq]
      unfold hasPrefix
      rw [List.isPrefixOf_iff_prefix, List.prefix_iff_eq_take, ← size_eq, List.drop_zero, Nat.sub_zero]
      exact ⟨fun h => h.symm, fun h => h.symm⟩), rfl⟩

theorem IsBytes.cap {w : World} {a : Option Addr} {len cap : Nat} {l : List UInt8} (h : IsBytes w (.slice a len cap) l) : l.length = len ∧ len ≤ cap := by
  rcases h with ⟨hv, rfl⟩ | ⟨x, c, hv, h1, h2, _⟩
  · injection hv with h1 h2 h3; subst h2; exact ⟨rfl, Nat.zero_le _⟩
  · injection hv with h3 h4 h5; subst h4; subst h5; exact ⟨rfl, h1⟩
/-- a list cut off ahead, as the walk spells it -/
theorem IsBytes.cut {w : World} {a : Option Addr} {len cap : Nat} {l : List UInt8} (h : IsBytes w (.slice a len cap) l) (k : Nat) (hk0 : 0 < k) (hk : k ≤ len) (_hc : cap ≠ k) :
    IsBytes w (.slice (Option.map (fun x => { block := x.block, off := x.off + k }) a) (len - k) (cap - k)) (l.drop k) := by
  rcases h with ⟨hv, rfl⟩ | ⟨x, c, hv, h1, h2, h3⟩
  · injection hv with h4 h5 h6; subst h5; omega
  · injection hv with h4 h5 h6
    subst h4; subst h5; subst h6
    refine .inr ⟨⟨x.block, x.off + k, none⟩, cap - k, ?_, ?_, by omega, fun i hi => ?_⟩
    · rw [List.length_drop]; rfl
    · rw [List.length_drop]; omega
    · rw [List.length_drop] at hi
      have := h3 (k + i) (by omega)
      rw [List.getElem_drop, ← this]
      congr 1
      unfold Addr.add
      by_cases h0 : i = 0
      · subst h0; simp; intro h; omega
      · simp [h0]; omega
theorem IsBytes.none_left {w : World} {a : Option Addr} {len cap : Nat} {l : List UInt8} (h : IsBytes w (.slice a len cap) l) : IsBytes w (.slice a 0 0) [] := by
  rcases h with ⟨hv, rfl⟩ | ⟨x, c, hv, h1, h2, h3⟩
  · injection hv with h4 h5 h6; subst h4; exact .inl ⟨rfl, rfl⟩
  · injection hv with h4 h5 h6; subst h4; exact .inr ⟨x, 0, rfl, Nat.le_refl _, Nat.zero_le _, fun i hi => absurd hi (by simp)⟩

/-- what is right is told as it is, but for a mark at its beginning -/
theorem dec_right (l : List UInt8) (hv : validD l = true) (hm : hasPrefix l markL = false) : dec l = l := by
  rw [dec_plain l hm, dec0_same l hv]
theorem dec_right_mark (l : List UInt8) (hv : validD l = true) (hm : hasPrefix l markL = true) : dec l = l.drop 3 := by
  rw [dec_mark l hm]
  obtain ⟨t, rfl⟩ := (hasMark l).1 hm
  have : validD t = true := by
    have e := validD_enc 65279 (by unfold IsSign; omega) t
    rw [show encodeRune ((65279 : Nat) : Int) = markL by decide] at e
    rw [← e]; exact hv
  exact dec0_same _ this
theorem dec_valid (l : List UInt8) : validD (dec l) = true := by
  unfold dec; exact validD_dec0 _ _ (Nat.le_refl _)
theorem dec_len (l : List UInt8) : (dec l).length ≤ 3 * l.length := by
  have h1 := dec0_len _ (trimPrefix l markL) (Nat.le_refl _)
  have h2 := trimPrefix_le l markL
  unfold dec; omega
theorem dec_ne (l : List UInt8) (hv : validD l = false) : dec l ≠ l := by
  intro h
  have := dec_valid l
  rw [h, hv] at this
  exact absurd this (by simp)

end Go.Proofs.YtbcmfcddkegcoaaDoor
