/-
  What the document's Norm and Clean of layer 2 answer, for every text; the chapter's examples.
-/
import Derived.Test.YtmclpgjhfmiedaaLinesCode
namespace Go.Proofs.Ytmclpgjhfmiedaa
open Go.RowKit Go.Lib

def prev13 (s : ByteArray) (i : Nat) : Bool := decide (0 < i) && (s.data.toList.getD (i - 1) 0 == 13)
theorem prev13_succ (s : ByteArray) (i : Nat) (h : i < s.size) : prev13 s (i + 1) = (s[i] == 13) := by
  unfold prev13
  rw [show i + 1 - 1 = i by omega, List.getD_eq_getElem?_getD, List.getElem?_eq_getElem (by rw [← Lib.size_eq]; exact h)]
  simp; rfl
theorem extract_one (s : ByteArray) (i : Nat) (h : i < s.size) : (s.extract i (i + 1)).data.toList = [s[i]] := by
  rw [extract_data, drop_at s i h, show i + 1 - i = 1 by omega]; rfl

theorem normP_13 (s : ByteArray) (i : Nat) (h : i < s.size) (O : ByteArray) (L : List UInt8) (hc : s[i] = 13) (heq : O.data.toList ++ normP (prev13 s i) (s.data.toList.drop i) = L) :
    (O ++ ⟨#[10]⟩).data.toList ++ normP (prev13 s (i + 1)) (s.data.toList.drop (i + 1)) = L := by
  rw [← heq, drop_at s i h, normP, hc, if_pos rfl, prev13_succ s i h, hc]
  simp
theorem normP_skip (s : ByteArray) (i : Nat) (h : i < s.size) (O : ByteArray) (L : List UInt8) (hc : s[i] = 10) (hp : prev13 s i = true) (heq : O.data.toList ++ normP (prev13 s i) (s.data.toList.drop i) = L) :
    O.data.toList ++ normP (prev13 s (i + 1)) (s.data.toList.drop (i + 1)) = L := by
  rw [← heq, drop_at s i h, normP, hc, if_neg (by decide), if_pos ⟨rfl, hp⟩, prev13_succ s i h, hc]
  rfl
theorem normP_one (s : ByteArray) (i : Nat) (h : i < s.size) (O : ByteArray) (L : List UInt8) (hc : s[i] ≠ 13) (hp : s[i] = 10 → prev13 s i = false) (heq : O.data.toList ++ normP (prev13 s i) (s.data.toList.drop i) = L) :
    (O ++ s.extract i (i + 1)).data.toList ++ normP (prev13 s (i + 1)) (s.data.toList.drop (i + 1)) = L := by
  have hb : (s[i] == 13) = false := by simpa using hc
  rw [← heq, drop_at s i h, normP, if_neg hc, prev13_succ s i h, hb]
  by_cases h10 : s[i] = 10
  · rw [if_neg (fun x => by rw [hp h10] at x; simp at x)]
    rw [ByteArray.data_append, Array.toList_append, extract_one s i h, List.append_assoc]; rfl
  · rw [if_neg (fun x => h10 x.1)]
    rw [ByteArray.data_append, Array.toList_append, extract_one s i h, List.append_assoc]; rfl

set_option maxRecDepth 100000 in
set_option maxHeartbeats 4000000 in
theorem refNorm_any (s : ByteArray) (w : World) (hs : s.size ≤ 1099511627776) :
    Calls Try.prog 10 #[.string s] w fun e w' => e = .returned (.string ⟨(normL s.data.toList).toArray⟩) ∧ Below w.heap.size w w' := by
  go_enter Try.func10, Try.ntmps10
  go_wp2
  go_loopw [3, 4] (fun o v wr => ∃ (i : Nat) (O : ByteArray), o = .string O ∧ v = .int .i64 (i : Int) ∧ Below w.heap.size w wr ∧ i ≤ s.size ∧ O.data.toList ++ normP (prev13 s i) (s.data.toList.drop i) = normL s.data.toList ∧ O.size ≤ i) (fun _ v _ => s.size - (intOf v).toNat)
  case atStart => exact ⟨0, ⟨#[]⟩, rfl, rfl, Below.refl _ w, Nat.zero_le _, by rw [show prev13 s 0 = false from rfl, normP_false]; rfl, Nat.zero_le _⟩
  case round =>
    obtain ⟨i, O, rfl, rfl, hbw, hle, heq, hO⟩ := hrel
    have HE := Lib.hid heq
    clear heq
    by_cases hlt : i < s.size
    · by_cases h13 : ((s[i].toNat : Nat) : Int) = 13
      · go_wp2
        go_roundw
        case rel => exact ⟨i + 1, _, rfl, rfl, hbw, by omega, normP_13 s i hlt O _ (u8_eq _ 13 (by decide) h13) HE.out, by rw [ByteArray.size_append]; have : (ByteArray.mk #[10]).size = 1 := rfl; omega⟩
        case measure => simp [intOf]; omega
      · have h13' : (((s[i].toNat : Nat) : Int) != 13) = true := by simpa using h13
        by_cases h10 : ((s[i].toNat : Nat) : Int) = 10
        · match i, hlt, h13, h13', h10, hle, HE, hO with
          | 0, hlt, h13, h13', h10, hle, HE, hO =>
            go_wp2
            go_roundw
            case rel => exact ⟨1, _, rfl, rfl, hbw, by omega, normP_one s 0 hlt O _ (u8_ne _ 13 (by decide) h13) (fun _ => rfl) HE.out, by simp; omega⟩
            case measure => simp [intOf]; omega
          | j + 1, hlt, h13, h13', h10, hle, HE, hO =>
            have hj : j < s.size := by omega
            have hi1 : (((j + 1 : Nat) : Int) == 0) = false := by simp; omega
            by_cases hp : ((s[j].toNat : Nat) : Int) = 13
            · go_wp2
              go_roundw
              case rel => exact ⟨j + 1 + 1, _, rfl, rfl, hbw, by omega, normP_skip s (j + 1) hlt O _ (u8_eq _ 10 (by decide) h10) (by rw [prev13_succ s j hj, u8_eq _ 13 (by decide) hp]; rfl) HE.out, by omega⟩
              case measure => simp [intOf]; omega
            · have hp' : (((s[j].toNat : Nat) : Int) != 13) = true := by simpa using hp
              go_wp2
              go_roundw
              case rel => exact ⟨j + 1 + 1, _, rfl, rfl, hbw, by omega, normP_one s (j + 1) hlt O _ (u8_ne _ 13 (by decide) h13) (fun _ => by rw [prev13_succ s j hj]; simpa using u8_ne _ 13 (by decide) hp) HE.out, by simp; omega⟩
              case measure => simp [intOf]; omega
        · have h10' : (((s[i].toNat : Nat) : Int) != 10) = true := by simpa using h10
          go_wp2
          go_roundw
          case rel => exact ⟨i + 1, _, rfl, rfl, hbw, by omega, normP_one s i hlt O _ (u8_ne _ 13 (by decide) h13) (fun x => absurd x (u8_ne _ 10 (by decide) h10)) HE.out, by simp; omega⟩
          case measure => simp [intOf]; omega
    · go_wp2
      go_ret
      refine ⟨ret_str ?_, hbw⟩
      have := HE.out
      rw [List.drop_eq_nil_of_le (by rw [← Lib.size_eq]; omega)] at this
      rw [← this]; simp [normP]

set_option maxRecDepth 100000 in
set_option maxHeartbeats 4000000 in
theorem refClean_any (s : ByteArray) (w : World) (hs : s.size ≤ 1099511627776) :
    Calls Try.prog 12 #[.string s] w fun e w' => e = .returned (.string ⟨(cleanL s.data.toList).toArray⟩) ∧ Below w.heap.size w w' := by
  go_enter Try.func12, Try.ntmps12
  go_wp2
  go_loopw [3, 4] (fun o v wr => ∃ (i : Nat) (O : ByteArray), o = .string O ∧ v = .int .i64 (i : Int) ∧ Below w.heap.size w wr ∧ i ≤ s.size ∧ O.data.toList ++ cleanL (s.data.toList.drop i) = cleanL s.data.toList ∧ O.size ≤ 3 * i) (fun _ v _ => s.size - (intOf v).toNat)
  case atStart => exact ⟨0, ⟨#[]⟩, rfl, rfl, Below.refl _ w, Nat.zero_le _, rfl, Nat.zero_le _⟩
  case round =>
    obtain ⟨i, O, rfl, rfl, hbw, hle, heq, hO⟩ := hrel
    have HE := Lib.hid heq
    clear heq
    by_cases hlt : i < s.size
    · by_cases h0 : ((s[i].toNat : Nat) : Int) = 0
      · go_wp2
        go_roundw
        case rel => exact ⟨i + 1, _, rfl, rfl, hbw, by omega, by rw [ByteArray.data_append, Array.toList_append]; exact clean_zero s i hlt _ (u8_eq _ 0 (by decide) h0) HE.out, by rw [ByteArray.size_append]; have : (ByteArray.mk #[239, 191, 189]).size = 3 := rfl; omega⟩
        case measure => simp [intOf]; omega
      · have h0' : (((s[i].toNat : Nat) : Int) == 0) = false := by simpa using h0
        go_wp2
        go_roundw
        case rel => exact ⟨i + 1, _, rfl, rfl, hbw, by omega, by rw [ByteArray.data_append, Array.toList_append, extract_one s i hlt]; exact clean_one s i hlt _ (u8_ne _ 0 (by decide) h0) HE.out, by simp; omega⟩
        case measure => simp [intOf]; omega
    · go_wp2
      go_ret
      refine ⟨ret_str ?_, hbw⟩
      have := HE.out
      rw [List.drop_eq_nil_of_le (by rw [← Lib.size_eq]; omega)] at this
      rw [← this]; simp [cleanL]

theorem norm_ex : (⟨(normL (ByteArray.mk #[97, 13, 10, 98, 13, 99]).data.toList).toArray⟩ : ByteArray) = ⟨#[97, 10, 98, 10, 99]⟩ := by
  rw [show normL (ByteArray.mk #[97, 13, 10, 98, 13, 99]).data.toList = [97, 10, 98, 10, 99] by decide +kernel]
theorem norm_ex0 : (⟨(normL (ByteArray.mk #[]).data.toList).toArray⟩ : ByteArray) = ⟨#[]⟩ := rfl
theorem clean_ex : (⟨(cleanL (ByteArray.mk #[97, 0]).data.toList).toArray⟩ : ByteArray) = ⟨#[97, 239, 191, 189]⟩ := by
  rw [show cleanL (ByteArray.mk #[97, 0]).data.toList = [97, 239, 191, 189] by decide +kernel]
set_option maxRecDepth 100000 in
set_option maxHeartbeats 4000000 in
theorem awake_any (w : World) :
    Calls Try.prog 8 #[] w fun e w' => e = .returned (.bool true) ∧ Below w.heap.size w w' := by
  go_enter Try.func8, Try.ntmps8
  go_wp2_with (fail)
  refine (norm_any _ _ (by decide)).mono ?_
  rintro e w1 ⟨rfl, hb1⟩
  rw [norm_ex]
  go_wp2_with (fail)
  refine (clean_any _ _ (by decide)).mono ?_
  rintro e w2 ⟨rfl, hb2⟩
  rw [clean_ex]
  go_wp2_with (fail)
  refine (norm_any _ _ (by decide)).mono ?_
  rintro e w3 ⟨rfl, hb3⟩
  rw [norm_ex0]
  go_wp2
  go_ret
  have h1 := hb1.size
  have h2 := hb2.size
  exact ⟨rfl, (hb1.trans (hb2.mono h1)).trans (hb3.mono (by omega))⟩

end Go.Proofs.Ytmclpgjhfmiedaa
