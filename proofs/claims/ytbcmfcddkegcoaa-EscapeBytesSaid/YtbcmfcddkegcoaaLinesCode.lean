/-
  What package lines' Norm and Clean answer, for every text.
-/
import Derived.Test.YtbcmfcddkegcoaaBld
import Derived.Test.YtbcmfcddkegcoaaGoto
import Derived.Test.YtbcmfcddkegcoaaLinesMath
import Derived.Test.YtbcmfcddkegcoaaSmall
import Derived.Lib.Bytes
import Derived.WalkSpells
import Derived.WalkLawsBesides
namespace Go.Proofs.Ytbcmfcddkegcoaa
open Go.RowKit Go.Lib

theorem norm_one (s : ByteArray) (i : Nat) (h : i < s.size) (acc : List UInt8) (hc : s[i] ≠ 13) (heq : acc ++ normL (s.data.toList.drop i) = normL s.data.toList) :
    (acc ++ [s[i]]) ++ normL (s.data.toList.drop (i + 1)) = normL s.data.toList := by
  rw [← heq, drop_at s i h, normL, if_pos hc, List.append_assoc]; rfl
theorem norm_two (s : ByteArray) (i : Nat) (h : i + 1 < s.size) (acc : List UInt8) (hc : s[i]'(by omega) = 13) (hd : s[i + 1] = 10) (heq : acc ++ normL (s.data.toList.drop i) = normL s.data.toList) :
    acc ++ normL (s.data.toList.drop (i + 1)) = normL s.data.toList := by
  rw [← heq, drop_at s i (by omega), normL, hc, drop_at s (i + 1) h, hd]; rfl
theorem norm_end (s : ByteArray) (i : Nat) (h : i < s.size) (acc : List UInt8) (hc : s[i] = 13) (hd : ∀ h : i + 1 < s.size, s[i + 1] ≠ 10) (heq : acc ++ normL (s.data.toList.drop i) = normL s.data.toList) :
    (acc ++ [10]) ++ normL (s.data.toList.drop (i + 1)) = normL s.data.toList := by
  have hh : (s.data.toList.drop (i + 1)).head? ≠ some 10 := by
    by_cases h1 : i + 1 < s.size
    · rw [drop_at s (i + 1) h1]; simpa using hd h1
    · rw [List.drop_eq_nil_of_le (by rw [← Lib.size_eq]; omega)]; simp
  rw [← heq, drop_at s i h, normL, hc]
  simp only [ne_eq, not_true_eq_false, if_false, if_neg hh, List.append_assoc]; rfl

set_option maxRecDepth 100000 in
set_option maxHeartbeats 4000000 in
theorem norm_any (s : ByteArray) (w : World) (hs : s.size ≤ 1099511627776) :
    Calls Try.prog 13 #[.string s] w fun e w' => e = .returned (.string ⟨(normL s.data.toList).toArray⟩) ∧ Below w.heap.size w w' := by
  go_enter Try.func13, Try.ntmps13
  go_wp2
  refine wp_scope_label 0 (fun a' wr => ∃ (at_ : Nat) (acc : List UInt8) (u1 u5 u6 u7 u8 u9 u10 u11 u12 u13 u14 u15 u16 u17 u18 u19 u20 u21 u22 u23 u24 u25 u26 u27 u28 u29 u30 u31 u32 u33 u34 u35 u36 u37 : Value), a' = { tmps := #[.string s, u1, .string ⟨#[]⟩, .pointer (some ⟨w.heap.size, 0, none⟩), .int .i64 (at_ : Int), u5, u6, u7, u8, u9, u10, u11, u12, u13, u14, u15, u16, u17, u18, u19, u20, u21, u22, u23, u24, u25, u26, u27, u28, u29, u30, u31, u32, u33, u34, u35, u36, u37], defers := [] } ∧ Lib.IsBuilderF 36 5 w.heap.size w.heap.size (Lib.byteCells acc) wr ∧ Below w.heap.size w wr ∧ at_ ≤ s.size ∧ acc ++ normL (s.data.toList.drop at_) = normL s.data.toList ∧ acc.length ≤ at_)
    (fun a' _ => s.size - (intOf (a'.tmps.getD 4 undef)).toNat) rfl ?_ ?_
  · rintro a' wr ⟨at_, acc, u1, u5, u6, u7, u8, u9, u10, u11, u12, u13, u14, u15, u16, u17, u18, u19, u20, u21, u22, u23, u24, u25, u26, u27, u28, u29, u30, u31, u32, u33, u34, u35, u36, u37, rfl, hI, hbw, hle, heq, hacc⟩
    have hsz := hbw.size
    by_cases hend : at_ = s.size
    · subst hend
      go_wp2_with (go_at_call 24; refine (Try.Builder_String_any_k w.heap.size w.heap.size acc _ hI (by omega)).mono ?_)
      rintro e W1 ⟨rfl, _, b1, _⟩
      go_wp2
      simp only [Exit.jump]
      go_ret
      refine ⟨ret_str ?_, hbw.trans b1⟩
      rw [← heq, List.drop_eq_nil_of_le (by rw [← Lib.size_eq]; omega)]; simp [normL]
    · have hlt : at_ < s.size := by omega
      have HE := Lib.hid heq
      clear heq
      by_cases h13 : ((s[at_].toNat : Nat) : Int) = 13
      · by_cases hlt1 : at_ + 1 < s.size
        · by_cases h10 : ((s[at_ + 1].toNat : Nat) : Int) = 10
          · go_wp2
            go_step3
            refine ⟨rfl, ⟨at_ + 1, acc, _, _, _, _, _, _, _, _, _, _, _, _, _, _, _, _, _, _, _, _, _, _, _, _, _, _, _, _, _, _, _, _, _, _, rfl, hI, hbw, by omega, norm_two s at_ (by omega) acc (u8_eq _ 13 (by decide) h13) (u8_eq _ 10 (by decide) h10) HE.out, by omega⟩, ?_⟩
            simp [intOf]; omega
          · have h10' : (((s[at_ + 1].toNat : Nat) : Int) == 10) = false := by simpa using h10
            go_wp2_with (go_at_call 25; refine (writeByte w.heap.size w.heap.size _ _ _ hI (by rw [byteCells_length]; omega) hsz).mono ?_)
            rintro e w1 ⟨rfl, h1, b1, -⟩
            go_wp2
            go_step3
            refine ⟨rfl, ⟨at_ + 1, acc ++ [10], _, _, _, _, _, _, _, _, _, _, _, _, _, _, _, _, _, _, _, _, _, _, _, _, _, _, _, _, _, _, _, _, _, _, rfl, by rw [byteCells_append]; exact .inr h1, hbw.trans b1, by omega, norm_end s at_ hlt acc (u8_eq _ 13 (by decide) h13) (fun _ => u8_ne _ 10 (by decide) h10) HE.out, by simp; omega⟩, ?_⟩
            simp [intOf]; omega
        · go_wp2_with (go_at_call 25; refine (writeByte w.heap.size w.heap.size _ _ _ hI (by rw [byteCells_length]; omega) hsz).mono ?_)
          rintro e w1 rfl h1 b1 -
          go_wp2
          go_step3
          refine ⟨rfl, ⟨at_ + 1, acc ++ [10], _, _, _, _, _, _, _, _, _, _, _, _, _, _, _, _, _, _, _, _, _, _, _, _, _, _, _, _, _, _, _, _, _, _, rfl, by rw [byteCells_append]; exact .inr h1, hbw.trans b1, by omega, norm_end s at_ hlt acc (u8_eq _ 13 (by decide) h13) (fun _ => absurd ‹_› (by omega)) HE.out, by simp; omega⟩, ?_⟩
          simp [intOf]; omega
      · have h13' : (((s[at_].toNat : Nat) : Int) != 13) = true := by simpa using h13
        go_wp2_with (go_at_call 25; refine (writeByte w.heap.size w.heap.size _ _ _ hI (by rw [byteCells_length]; omega) hsz).mono ?_)
        rintro e w1 ⟨rfl, h1, b1, -⟩
        go_wp2
        go_step3
        refine ⟨rfl, ⟨at_ + 1, acc ++ [s[at_]], _, _, _, _, _, _, _, _, _, _, _, _, _, _, _, _, _, _, _, _, _, _, _, _, _, _, _, _, _, _, _, _, _, _, rfl, by rw [byteCells_append]; exact .inr h1, hbw.trans b1, by omega, norm_one s at_ hlt acc (u8_ne _ 13 (by decide) h13) HE.out, by simp; omega⟩, ?_⟩
        simp [intOf]; omega
  · intro hpass
    go_wp2_with (fail)
    refine (Try.Builder_Grow_fresh w.heap.size w.heap.size s.size _ (Nat.le_refl _) (heap_alloc_new w _) (by simp) (by omega)).mono ?_
    rintro e w2 ⟨rfl, hB0, hbel0⟩
    have hI0 : Lib.IsBuilderF 36 5 w.heap.size w.heap.size [] w2 := Lib.IsBuilderF.of (.inr hB0)
    go_wp2
    go_step3
    rename_i K hK
    refine hK _ _ (hpass _ _ ?_)
    exact ⟨0, [], _, _, _, _, _, _, _, _, _, _, _, _, _, _, _, _, _, _, _, _, _, _, _, _, _, _, _, _, _, _, _, _, _, _, rfl, hI0, ((Below.refl _ w).alloc (Nat.le_refl _) _).trans hbel0, Nat.zero_le _, rfl, Nat.zero_le _⟩

theorem clean_zero (s : ByteArray) (i : Nat) (h : i < s.size) (acc : List UInt8) (hc : s[i] = 0) (heq : acc ++ cleanL (s.data.toList.drop i) = cleanL s.data.toList) :
    (acc ++ [239, 191, 189]) ++ cleanL (s.data.toList.drop (i + 1)) = cleanL s.data.toList := by
  rw [← heq, drop_at s i h, cleanL, hc, if_pos rfl, List.append_assoc]; rfl
theorem clean_one (s : ByteArray) (i : Nat) (h : i < s.size) (acc : List UInt8) (hc : s[i] ≠ 0) (heq : acc ++ cleanL (s.data.toList.drop i) = cleanL s.data.toList) :
    (acc ++ [s[i]]) ++ cleanL (s.data.toList.drop (i + 1)) = cleanL s.data.toList := by
  rw [← heq, drop_at s i h, cleanL, if_neg hc, List.append_assoc]; rfl
theorem strCells_bad : strCells ⟨#[239, 191, 189]⟩ = byteCells [239, 191, 189] := rfl

set_option maxRecDepth 100000 in
set_option maxHeartbeats 4000000 in
theorem clean_any (s : ByteArray) (w : World) (hs : s.size ≤ 1099511627776) :
    Calls Try.prog 14 #[.string s] w fun e w' => e = .returned (.string ⟨(cleanL s.data.toList).toArray⟩) ∧ Below w.heap.size w w' := by
  go_enter Try.func14, Try.ntmps14
  go_wp2
  refine wp_scope_label 0 (fun a' wr => ∃ (at_ : Nat) (acc : List UInt8) (u1 u5 u6 u7 u8 u9 u10 u11 u12 u13 u14 u15 u16 u17 u18 u19 u20 u21 u22 u23 : Value), a' = { tmps := #[.string s, u1, .string ⟨#[]⟩, .pointer (some ⟨w.heap.size, 0, none⟩), .int .i64 (at_ : Int), u5, u6, u7, u8, u9, u10, u11, u12, u13, u14, u15, u16, u17, u18, u19, u20, u21, u22, u23], defers := [] } ∧ Lib.IsBuilderF 36 5 w.heap.size w.heap.size (Lib.byteCells acc) wr ∧ Below w.heap.size w wr ∧ at_ ≤ s.size ∧ acc ++ cleanL (s.data.toList.drop at_) = cleanL s.data.toList ∧ acc.length ≤ 3 * at_)
    (fun a' _ => s.size - (intOf (a'.tmps.getD 4 undef)).toNat) rfl ?_ ?_
  · rintro a' wr ⟨at_, acc, u1, u5, u6, u7, u8, u9, u10, u11, u12, u13, u14, u15, u16, u17, u18, u19, u20, u21, u22, u23, rfl, hI, hbw, hle, heq, hacc⟩
    have hsz := hbw.size
    by_cases hend : at_ = s.size
    · subst hend
      go_wp2_with (go_at_call 24; refine (Try.Builder_String_any_k w.heap.size w.heap.size acc _ hI (by omega)).mono ?_)
      rintro e W1 ⟨rfl, _, b1, _⟩
      go_wp2
      simp only [Exit.jump]
      go_ret
      refine ⟨ret_str ?_, hbw.trans b1⟩
      rw [← heq, List.drop_eq_nil_of_le (by rw [← Lib.size_eq]; omega)]; simp [cleanL]
    · have hlt : at_ < s.size := by omega
      have HE := Lib.hid heq
      clear heq
      by_cases h0 : ((s[at_].toNat : Nat) : Int) = 0
      · go_wp2_with (go_at_call 21; refine (writeString w.heap.size w.heap.size _ _ _ hI (by rw [byteCells_length]; have : (ByteArray.mk #[239, 191, 189]).size = 3 := rfl; omega) hsz).mono ?_)
        rintro e w1 ⟨rfl, h1, b1, -⟩
        go_wp2
        go_step3
        refine ⟨rfl, ⟨at_ + 1, acc ++ [239, 191, 189], _, _, _, _, _, _, _, _, _, _, _, _, _, _, _, _, _, _, _, _, rfl, by rw [byteCells_append, ← strCells_bad]; exact .inr h1, hbw.trans b1, by omega, clean_zero s at_ hlt acc (u8_eq _ 0 (by decide) h0) HE.out, by simp; omega⟩, ?_⟩
        simp [intOf]; omega
      · have h0' : (((s[at_].toNat : Nat) : Int) == 0) = false := by simpa using h0
        go_wp2_with (go_at_call 25; refine (writeByte w.heap.size w.heap.size _ _ _ hI (by rw [byteCells_length]; omega) hsz).mono ?_)
        rintro e w1 ⟨rfl, h1, b1, -⟩
        go_wp2
        go_step3
        refine ⟨rfl, ⟨at_ + 1, acc ++ [s[at_]], _, _, _, _, _, _, _, _, _, _, _, _, _, _, _, _, _, _, _, _, rfl, by rw [byteCells_append]; exact .inr h1, hbw.trans b1, by omega, clean_one s at_ hlt acc (u8_ne _ 0 (by decide) h0) HE.out, by simp; omega⟩, ?_⟩
        simp [intOf]; omega
  · intro hpass
    go_wp2_with (fail)
    refine (Try.Builder_Grow_fresh w.heap.size w.heap.size s.size _ (Nat.le_refl _) (heap_alloc_new w _) (by simp) (by omega)).mono ?_
    rintro e w2 ⟨rfl, hB0, hbel0⟩
    have hI0 : Lib.IsBuilderF 36 5 w.heap.size w.heap.size [] w2 := Lib.IsBuilderF.of (.inr hB0)
    go_wp2
    go_step3
    rename_i K hK
    refine hK _ _ (hpass _ _ ?_)
    exact ⟨0, [], _, _, _, _, _, _, _, _, _, _, _, _, _, _, _, _, _, _, _, _, rfl, hI0, ((Below.refl _ w).alloc (Nat.le_refl _) _).trans hbel0, Nat.zero_le _, rfl, Nat.zero_le _⟩

end Go.Proofs.Ytbcmfcddkegcoaa
