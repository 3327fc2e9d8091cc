/-
  Small facts for the laws of layer 1: a text's bytes as a new row; what decoding gives of signs side by side.
-/
import Derived.Test.YtbcmfcddkegcoaaDoorUA
namespace Go.Proofs.YtbcmfcddkegcoaaDoor
open Go.RowKit Go.Lib

/-- what '[]byte(s)' hands over (n: how long s is) -/
theorem isBytes_conv (w : World) (s : ByteArray) (n : Nat) (fr : Nat × Nat) (hn : s.size = n) (hm : n ≤ maxLen) :
    IsBytes (w.alloc (.cells (bytesRow s (grownCap w n 0 5)) 5 fr)).drew (.slice (some ⟨w.heap.size, 0, none⟩) n (grownCap w n 0 5)) s.data.toList := by
  subst hn
  refine .inr ⟨_, _, by rw [← size_eq], by rw [← size_eq]; exact grownCap_ge w s.size 0 _, grownCap_le_maxLen w s.size 0 _ hm, fun i hi => ?_⟩
  have e : (⟨w.heap.size, 0, none⟩ : Addr).add i = ⟨w.heap.size, i, none⟩ := by simp [Addr.add]; omega
  have hj : i < s.data.size := by simpa using hi
  rw [e]
  show (w.alloc _).cell? _ = _
  rw [World.cell?_alloc_mark, bytesRow_at s _ i hj]
  simp

theorem below_conv {B : Nat} {a w : World} (h : Below B a w) (hB : B ≤ w.heap.size) (o : Obj) : Below B a (w.alloc o).drew := (h.alloc hB o).drew

theorem app_listU (A B : ByteArray) : (A ++ B).data.toList = A.data.toList ++ B.data.toList := by simp

/-- two signs side by side -/
theorem two_dec (m n : Int) (h : m ≠ 65279) : dec (encodeRune m ++ encodeRune n) = encodeRune m ++ encodeRune n := by
  obtain ⟨r, hr, e1, c1⟩ := enc_is m
  obtain ⟨q, hq, e2, _⟩ := enc_is n
  have hmark : hasPrefix (encodeRune m ++ encodeRune n) markL = false := by
    rw [Bool.eq_false_iff]
    intro hp
    obtain ⟨t, ht⟩ := (hasMark _).1 hp
    have := decodeL_enc r hr (encodeRune n)
    rw [← e1, ht, mark_dec] at this
    have := congrArg Prod.fst this
    simp only at this
    rcases c1 with ⟨_, _, c⟩ | ⟨_, c⟩ <;> omega
  rw [dec_plain _ hmark, e1, e2, dec0_enc r hr]
  have := dec0_enc q hq []
  rw [List.append_nil, dec0_nil, List.append_nil] at this
  rw [this]
theorem mark_dec_two (n : Int) : dec (encodeRune 65279 ++ encodeRune n) = encodeRune n := by
  obtain ⟨q, hq, e2, _⟩ := enc_is n
  rw [show encodeRune 65279 = markL by decide, dec_mark _ ((hasMark _).2 ⟨_, rfl⟩)]
  show dec0 (encodeRune n) = encodeRune n
  have := dec0_enc q hq []
  rw [List.append_nil, dec0_nil, List.append_nil] at this
  rw [e2, this]
theorem two_right (m n : Int) : validD (encodeRune m ++ encodeRune n) = true := by
  obtain ⟨r, hr, e1, _⟩ := enc_is m
  obtain ⟨q, hq, e2, _⟩ := enc_is n
  rw [e1, e2, validD_enc r hr]
  have := validD_enc q hq []
  rw [List.append_nil] at this
  rw [this]; rfl

theorem named (l : List UInt8) : ∃ A : ByteArray, (⟨l.toArray⟩ : ByteArray) = A ∧ A.data.toList = l ∧ A.size = l.length := ⟨_, rfl, strL l, strSize l⟩
theorem list_str {A : ByteArray} {l : List UInt8} (h : l = A.data.toList) : (⟨l.toArray⟩ : ByteArray) = A := by rw [h]

/-! ### signs in their order -/
theorem lt8 (x y : Int) (h0 : 0 ≤ x) (h1 : x < 256) (g0 : 0 ≤ y) (g1 : y < 256) : (x.toNat.toUInt8 < y.toNat.toUInt8) = (x < y) := by
  rw [UInt8.lt_iff_toNat_lt, u8nat x h0 h1, u8nat y g0 g1]
  exact propext ⟨fun h => by omega, fun h => by omega⟩
theorem eq8 (x y : Int) (h0 : 0 ≤ x) (h1 : x < 256) (g0 : 0 ≤ y) (g1 : y < 256) : (x.toNat.toUInt8 = y.toNat.toUInt8) = (x = y) := by
  rw [← UInt8.toNat_inj, u8nat x h0 h1, u8nat y g0 g1]
  exact propext ⟨fun h => by omega, fun h => by omega⟩

/-- which bytes a sign has, by its number -/
theorem enc_cases (a : Nat) (h : IsSign a) :
    (a < 128 ∧ encodeRune (a : Int) = [(a : Int).toNat.toUInt8]) ∨
    (128 ≤ a ∧ a < 2048 ∧ encodeRune (a : Int) = [(192 + (a : Int) / 64).toNat.toUInt8, (128 + (a : Int) % 64).toNat.toUInt8]) ∨
    (2048 ≤ a ∧ a < 65536 ∧ encodeRune (a : Int) = [(224 + (a : Int) / 4096).toNat.toUInt8, (128 + (a : Int) / 64 % 64).toNat.toUInt8, (128 + (a : Int) % 64).toNat.toUInt8]) ∨
    (65536 ≤ a ∧ a ≤ 1114111 ∧ encodeRune (a : Int) = [(240 + (a : Int) / 262144).toNat.toUInt8, (128 + (a : Int) / 4096 % 64).toNat.toUInt8, (128 + (a : Int) / 64 % 64).toNat.toUInt8, (128 + (a : Int) % 64).toNat.toUInt8]) := by
  unfold IsSign at h
  by_cases h1 : a ≤ 127
  · exact .inl ⟨by omega, by rw [encodeRune, encodeRuneZ_one (by omega) (by omega)]; rfl⟩
  by_cases h2 : a ≤ 2047
  · exact .inr (.inl ⟨by omega, by omega, by rw [encodeRune, encodeRuneZ_two (by omega) (by omega)]; rfl⟩)
  by_cases h3 : a ≤ 65535
  · exact .inr (.inr (.inl ⟨by omega, by omega, by rw [encodeRune, encodeRuneZ_three (by omega)]; rfl⟩))
  · exact .inr (.inr (.inr ⟨by omega, by omega, by rw [encodeRune, encodeRuneZ_four (by omega) (by omega)]; rfl⟩))

set_option maxHeartbeats 4000000 in
/-- greater numbers have greater bytes -/
theorem enc_less (a b : Nat) (ha : IsSign a) (hb : IsSign b) : Op.bytesLess (encodeRune (a : Int)) (encodeRune (b : Int)) = decide (a < b) := by
  rw [Bool.eq_iff_iff]
  rcases enc_cases a ha with ⟨h1, e1⟩ | ⟨h1, h1', e1⟩ | ⟨h1, h1', e1⟩ | ⟨h1, h1', e1⟩ <;> rcases enc_cases b hb with ⟨h2, e2⟩ | ⟨h2, h2', e2⟩ | ⟨h2, h2', e2⟩ | ⟨h2, h2', e2⟩ <;> rw [e1, e2] <;>
    simp (disch := omega) only [Op.bytesLess, lt8, eq8, Bool.or_eq_true, Bool.and_eq_true, decide_eq_true_eq, beq_iff_eq, Bool.false_eq_true, and_false, or_false, and_true] <;> omega
theorem enc_inj (a b : Nat) (ha : IsSign a) (hb : IsSign b) (h : encodeRune (a : Int) = encodeRune (b : Int)) : a = b := by
  have e1 := decodeL_enc a ha []
  have e2 := decodeL_enc b hb []
  rw [h, e2] at e1
  exact (congrArg Prod.fst e1).symm
theorem enc_want (a : Nat) (h : IsSign a) : (encodeRune (a : Int)).length = if a < 128 then 1 else if a < 2048 then 2 else if a < 65536 then 3 else 4 := by
  rcases enc_cases a h with ⟨h1, e1⟩ | ⟨h1, h1', e1⟩ | ⟨h1, h1', e1⟩ | ⟨h1, h1', e1⟩ <;> rw [e1] <;> repeat' split
  all_goals first | rfl | omega
theorem enc_none (a : Nat) (h : 55296 ≤ a ∧ a ≤ 57343) : encodeRune (a : Int) = badL := by
  rw [encodeRune, encodeRuneZ_bad (by omega)]; rfl

end Go.Proofs.YtbcmfcddkegcoaaDoor
