/-
  What package sign's Lower answers, for every text.
-/
import Derived.Test.YtloabbfahpgbcaaBldB
import Derived.Test.YtloabbfahpgbcaaSignCode
namespace Go.Proofs.Ytloabbfahpgbcaa
open Go.RowKit Go.Lib

theorem low_one (s : ByteArray) (i : Nat) (h : i < s.size) (acc : List UInt8) (heq : acc ++ lowL (s.data.toList.drop i) = lowL s.data.toList) :
    (acc ++ [lowB s[i]]) ++ lowL (s.data.toList.drop (i + 1)) = lowL s.data.toList := by
  rw [← heq, drop_at s i h, lowL_cons, List.append_assoc]; rfl
theorem byteCells_one (acc : List UInt8) (c : UInt8) : byteCells (acc ++ [c]) = byteCells acc ++ [.int .u8 (c.toNat : Int)] := by rw [byteCells_append]; rfl

set_option maxRecDepth 100000 in
set_option maxHeartbeats 4000000 in
theorem lower (s : ByteArray) (w : World) (hs : s.size ≤ 1099511627776) :
    Calls Try.prog 18 #[.string s] w fun e w' => e = .returned (.string (lowS s)) ∧ Below w.heap.size w w' := by
  go_enter Try.func18, Try.ntmps18
  go_wp2_with (fail)
  refine (Try.Builder_Grow_fresh w.heap.size w.heap.size s.size _ (Nat.le_refl _) (heap_alloc_new w _) (by simp) (by omega)).mono ?_
  rintro e w2 ⟨rfl, hB0, hbel0⟩
  have hI0 : Lib.IsBuilderF 35 5 w.heap.size w.heap.size [] w2 := Lib.IsBuilderF.of (.inr hB0)
  have hb0 : Below w.heap.size w w2 := ((Below.refl _ w).alloc (Nat.le_refl _) _).trans hbel0
  clear hB0 hbel0
  go_wp2
  go_loopw [10] (fun v wr => ∃ (i : Nat) (acc : List UInt8), v = .int .i64 (i : Int) ∧ Lib.IsBuilderF 35 5 w.heap.size w.heap.size (Lib.byteCells acc) wr ∧ Below w.heap.size w wr ∧ i ≤ s.size ∧ acc ++ lowL (s.data.toList.drop i) = lowL s.data.toList ∧ acc.length ≤ i) (fun v _ => s.size - (intOf v).toNat)
  case atStart => exact ⟨0, [], rfl, hI0, hb0, Nat.zero_le _, rfl, Nat.zero_le _⟩
  case round =>
    obtain ⟨i, acc, rfl, hI, hbw, hle, heq, hacc⟩ := hrel
    have hsz := hbw.size
    have HE := Lib.hid heq
    clear heq
    by_cases hlt : i < s.size
    · have hq := (s[i]'hlt).toNat_lt
      have LB := Lib.hid (lowB_int (s[i]'hlt))
      go_wp2_with (fail)
      refine (small _ _ (by omega) (by omega)).mono ?_
      rintro e w' ⟨rfl, rfl⟩
      rw [← LB.out]
      go_wp2_with (fail)
      refine (writeByte w.heap.size w.heap.size _ _ _ hI (by rw [byteCells_length]; omega) hsz).mono ?_
      rintro e w1 ⟨rfl, h1, b1, -⟩
      go_wp2
      go_roundw
      case rel => exact ⟨i + 1, acc ++ [lowB s[i]], rfl, by rw [byteCells_one]; exact .inr h1, hbw.trans b1, by omega, low_one s i hlt acc HE.out, by simp; omega⟩
      case measure => simp [intOf]; omega
    · go_wp2_with (go_at_call 26; refine (Try.Builder_String_any_k w.heap.size w.heap.size acc _ hI (by omega)).mono ?_)
      rintro e W1 ⟨rfl, _, b1, _⟩
      go_wp2
      go_ret
      refine ⟨ret_str ?_, hbw.trans b1⟩
      have := HE.out
      rw [List.drop_eq_nil_of_le (by rw [← Lib.size_eq]; omega), lowL, List.map_nil, List.append_nil] at this
      rw [this]; rfl

end Go.Proofs.Ytloabbfahpgbcaa
