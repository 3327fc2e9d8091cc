/-
  Small facts for the laws of layer 1: a text's bytes as a new row; what decoding gives of signs side by side.
-/
import Derived.Test.YtafghfljbelgdaaUtfAwake
namespace Go.Proofs.Ytafghfljbelgdaa
open Go.RowKit Go.Lib

/-- what '[]byte(s)' hands over (n: how long s is) -/
theorem isBytes_conv (w : World) (s : ByteArray) (n : Nat) (fr : Nat × Nat) (hn : s.size = n) (hm : n ≤ maxLen) :
    IsBytes (w.alloc (.cells (bytesRow s (grownCap w n 0 5)) 5 fr)).drew (.slice (some ⟨w.heap.size, 0, none⟩) n (grownCap w n 0 5)) s.data.toList := by
  subst hn
  refine .inr ⟨_, _, by rw [← size_eq], by rw [← size_eq]; exact grownCap_ge w s.size 0 _, grownCap_le_maxLen w s.size 0 _ hm, fun i hi => ?_⟩
  have e : (⟨w.heap.size, 0, none⟩ : Addr).add i = ⟨w.heap.size, i, none⟩ := by simp [Addr.add]; omega
  have hj : i < s.data.size := by simpa using hi
  rw [e]
  show (w.alloc _).cell? _ = _
  rw [World.cell?_alloc_mark, bytesRow_at s _ i hj]
  simp

theorem below_conv {B : Nat} {a w : World} (h : Below B a w) (hB : B ≤ w.heap.size) (o : Obj) : Below B a (w.alloc o).drew := (h.alloc hB o).drew

theorem app_list (A B : ByteArray) : (A ++ B).data.toList = A.data.toList ++ B.data.toList := by simp

/-- two signs side by side -/
theorem two_dec (m n : Int) (h : m ≠ 65279) : dec (encodeRune m ++ encodeRune n) = encodeRune m ++ encodeRune n := by
  obtain ⟨r, hr, e1, c1⟩ := enc_is m
  obtain ⟨q, hq, e2, _⟩ := enc_is n
  have hmark : hasPrefix (encodeRune m ++ encodeRune n) markL = false := by
    rw [Bool.eq_false_iff]
    intro hp
    obtain ⟨t, ht⟩ := (hasMark _).1 hp
    have := decodeL_enc r hr (encodeRune n)
    rw [← e1, ht, mark_dec] at this
    have := congrArg Prod.fst this
    simp only at this
    rcases c1 with ⟨_, _, c⟩ | ⟨_, c⟩ <;> omega
  rw [dec_plain _ hmark, e1, e2, dec0_enc r hr]
  have := dec0_enc q hq []
  rw [List.append_nil, dec0_nil, List.append_nil] at this
  rw [this]
theorem mark_dec_two (n : Int) : dec (encodeRune 65279 ++ encodeRune n) = encodeRune n := by
  obtain ⟨q, hq, e2, _⟩ := enc_is n
  rw [show encodeRune 65279 = markL by decide, dec_mark _ ((hasMark _).2 ⟨_, rfl⟩)]
  show dec0 (encodeRune n) = encodeRune n
  have := dec0_enc q hq []
  rw [List.append_nil, dec0_nil, List.append_nil] at this
  rw [e2, this]
theorem two_right (m n : Int) : validD (encodeRune m ++ encodeRune n) = true := by
  obtain ⟨r, hr, e1, _⟩ := enc_is m
  obtain ⟨q, hq, e2, _⟩ := enc_is n
  rw [e1, e2, validD_enc r hr]
  have := validD_enc q hq []
  rw [List.append_nil] at this
  rw [this]; rfl

theorem named (l : List UInt8) : ∃ A : ByteArray, (⟨l.toArray⟩ : ByteArray) = A ∧ A.data.toList = l ∧ A.size = l.length := ⟨_, rfl, strL l, strSize l⟩
theorem list_str {A : ByteArray} {l : List UInt8} (h : l = A.data.toList) : (⟨l.toArray⟩ : ByteArray) = A := by rw [h]

end Go.Proofs.Ytafghfljbelgdaa
