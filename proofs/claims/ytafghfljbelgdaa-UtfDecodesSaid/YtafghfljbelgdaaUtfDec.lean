/-
  What package utf's Decode answers, for every list of bytes.
-/
import Derived.Test.YtafghfljbelgdaaUtfLoop
import Derived.Laws.IdiomStrings
import Derived.Deep.DeepFit
namespace Go.Proofs.Ytafghfljbelgdaa
open Go.RowKit Go.Lib

/-- a value that is a list of bytes: nil, or a row in memory -/
def IsBytes (w : World) (v : Value) (l : List UInt8) : Prop :=
  (v = .slice none 0 0 ∧ l = []) ∨
  ∃ x cap, v = .slice (some x) l.length cap ∧ l.length ≤ cap ∧ cap ≤ maxLen ∧ ∀ i (h : i < l.length), w.cell? (x.add i) = some (.int .u8 ((l[i]'h).toNat : Int))

theorem IsBytes.conv {w : World} {v : Value} {l : List UInt8} (h : IsBytes w v l) :
    (convert 22 9 v).run Try.prog w = .ok (.string ⟨l.toArray⟩) w := by
  rcases h with ⟨rfl, rfl⟩ | ⟨x, cap, rfl, hl, hc, hcell⟩
  · rw [run_convert_bytes_string w 22 9 5 none 0 0 Try.underlying22 Try.underlying5 Try.underlying9]; rfl
  · exact run_convert_bytes_back (P := Try.prog) w 22 9 5 x cap l Try.underlying22 Try.underlying5 Try.underlying9 hcell

theorem strL (l : List UInt8) : (ByteArray.mk l.toArray).data.toList = l := by simp
theorem strSize (l : List UInt8) : (ByteArray.mk l.toArray).size = l.length := by rw [size_eq, strL]

theorem trim_mark (l : List UInt8) (S : ByteArray) (h : Hid ((⟨(trimPrefix l markL).toArray⟩ : ByteArray) = S)) (w : World) :
    Calls Try.prog 18 #[.string ⟨l.toArray⟩, .string ⟨#[239, 187, 191]⟩] w fun e w' => e = .returned (.string S) ∧ w = w' := by
  refine (Try.strings_TrimPrefix _ _ w).mono ?_
  rintro e w' ⟨rfl, rfl⟩
  refine ⟨ret_str ?_, rfl⟩
  rw [← h.out, strL]; rfl

/-- what is carried from round to round: the place, how far the longest beginning reached, what has been told -/
def DecAt (S : ByteArray) (pos behind : Nat) (acc : List UInt8) : Prop :=
  behind ≤ S.size ∧ (∀ i, pos ≤ i → i < behind → (S.data.toList.getD i 0).toNat / 64 = 2) ∧ acc ++ dec0 (S.data.toList.drop (max pos behind)) = dec0 S.data.toList ∧ acc.length ≤ 3 * max pos behind

theorem DecAt.skip {S : ByteArray} {pos behind : Nat} {acc : List UInt8} (h : DecAt S pos behind acc) (hlt : pos < behind) : Utf8.decode S pos = (65533, 1) ∧ DecAt S (pos + 1) behind acc := by
  obtain ⟨h1, h2, h3, h4⟩ := h
  refine ⟨?_, h1, fun i hi hb => h2 i (by omega) hb, ?_, ?_⟩
  · rw [← decodeL_drop]
    exact decodeL_cont _ (by rw [getD_dropU, Nat.add_zero]; exact h2 pos (Nat.le_refl _) hlt)
  · rw [show max (pos + 1) behind = max pos behind by omega]; exact h3
  · omega
theorem DecAt.bad {S : ByteArray} {pos behind : Nat} {acc : List UInt8} (h : DecAt S pos behind acc) (hp : pos < S.size) (hge : behind ≤ pos) (hk : brk (S.data.toList.drop pos) = true) :
    DecAt S (pos + 1) (pos + begL (S.data.toList.drop pos)) (acc ++ badL) := by
  obtain ⟨h1, h2, h3, h4⟩ := h
  have hb := begL_ge (S.data.toList.drop pos)
  have hl := begL_le (S.data.toList.drop pos) (drop_ne S pos hp)
  rw [List.length_drop, ← size_eq] at hl
  rw [show max pos behind = pos by omega] at h3 h4
  refine ⟨by omega, fun i hi hb => ?_, ?_, ?_⟩
  · have := beg_conts (S.data.toList.drop pos) (i - pos) (by omega) (by omega)
    rw [getD_dropU, show pos + (i - pos) = i by omega] at this
    exact this
  · rw [show max (pos + 1) (pos + begL (S.data.toList.drop pos)) = pos + begL (S.data.toList.drop pos) by omega, List.append_assoc, ← h3,
      dec0_step (S.data.toList.drop pos) (drop_ne S pos hp), hk, if_pos rfl, List.drop_drop]
  · rw [List.length_append]; simp only [badL, List.length_cons, List.length_nil]; omega
theorem DecAt.good {S : ByteArray} {pos behind : Nat} {acc : List UInt8} (h : DecAt S pos behind acc) (hp : pos < S.size) (hge : behind ≤ pos) (hk : brk (S.data.toList.drop pos) = false) :
    DecAt S (pos + (Utf8.decode S pos).2) behind (acc ++ encodeRune ((Utf8.decode S pos).1 : Int)) := by
  obtain ⟨h1, h2, h3, h4⟩ := h
  have hw := width_pos S pos
  have hl := width_enc (S.data.toList.drop pos) (drop_ne S pos hp) hk
  rw [decodeL_drop] at hl
  rw [show max pos behind = pos by omega] at h3 h4
  refine ⟨h1, fun i hi hb => by omega, ?_, ?_⟩
  · rw [show max (pos + (Utf8.decode S pos).2) behind = pos + (Utf8.decode S pos).2 by omega, List.append_assoc, ← h3,
      dec0_step (S.data.toList.drop pos) (drop_ne S pos hp), hk, if_neg (by simp), ← enc_dec _ (drop_ne S pos hp) hk, decodeL_drop, List.drop_drop]
  · rw [List.length_append, hl]; omega
theorem DecAt.end {S : ByteArray} {pos behind : Nat} {acc : List UInt8} (h : DecAt S pos behind acc) (hp : ¬ pos < S.size) : acc = dec0 S.data.toList := by
  obtain ⟨_, _, h3, _⟩ := h
  rw [drop_end S _ (by omega), dec0_nil, List.append_nil] at h3
  exact h3

theorem strCells_bad : strCells ⟨#[239, 191, 189]⟩ = byteCells badL := rfl

set_option maxRecDepth 100000 in
set_option maxHeartbeats 4000000 in
/-- Decode: bytes as signs -/
theorem decode_any (v : Value) (l : List UInt8) (w : World) (hv : IsBytes w v l) (hl : l.length ≤ 1099511627776) :
    Calls Try.prog 11 #[v] w fun e w' => e = .returned (.string ⟨(dec l).toArray⟩) ∧ Below w.heap.size w w' := by
  have hcv := hv.conv
  clear hv
  obtain ⟨S, hS⟩ : ∃ S : ByteArray, (⟨(trimPrefix l markL).toArray⟩ : ByteArray) = S := ⟨_, rfl⟩
  have hSl : S.size ≤ 1099511627776 := by
    have := trimPrefix_le l markL
    rw [← hS, strSize]; omega
  have HS := Lib.hid hS
  have HD : Hid (dec l = dec0 S.data.toList) := Lib.hid (by unfold dec; rw [← hS, strL])
  clear hS
  go_enter Try.func11, Try.ntmps11
  go_wp2_with (go_at_call 18; refine (trim_mark l S HS _).mono ?_; rintro e w' ⟨rfl, rfl⟩)
  refine (Try.Builder_Grow_fresh w.heap.size w.heap.size S.size _ (Nat.le_refl _) (heap_alloc_new w _) (by simp) (by omega)).mono ?_
  rintro e w2 ⟨rfl, hB0, hbel0⟩
  have hI0 : Lib.IsBuilderF 38 5 w.heap.size w.heap.size [] w2 := Lib.IsBuilderF.of (.inr hB0)
  have hsz0 : w.heap.size + 1 ≤ w2.heap.size := by have := hbel0.size; simpa using this
  go_wp2_with (fail)
  go_loopw [5] (fun bh wr => ∃ (pos behind : Nat) (acc : List UInt8), bh = .int .i64 (behind : Int) ∧ Lib.IsBuilderF 38 5 w.heap.size w.heap.size (byteCells acc) wr ∧ wr.heap[w2.heap.size]? = some (.stringIter S pos) ∧ Below w.heap.size w wr ∧ DecAt S pos behind acc) (fun _ wr => S.size - wr.iterPos w2.heap.size)
  case atStart =>
    refine ⟨0, 0, [], rfl, hI0.alloc _, ?_, (((Below.refl _ w).alloc (Nat.le_refl _) _).trans hbel0).alloc (by omega) _, Nat.zero_le _, fun i _ h => absurd h (by omega), rfl, Nat.zero_le _⟩
    have := World.iter_heap w2 S 0
    simpa using this
  case round =>
    obtain ⟨pos, behind, acc, rfl, hI, hit, hbw, hat⟩ := hrel
    have hb1 := hat.1
    have hal := hat.2.2.2
    have HA := Lib.hid hat
    clear hat
    have hsz : w2.heap.size < wr.heap.size := (Array.getElem?_eq_some_iff.1 hit).1
    by_cases hp : pos < S.size
    · have hnx : ∀ ty, (Instr.next (.pointer (some ⟨w2.heap.size, 0, none⟩)) true ty).run Try.prog wr = _ := fun ty => Lib.run_next_any_at wr w2.heap.size S pos ty hit hp
      have hwd := width_pos S pos
      have hd1 := decode_le S pos
      have hI2 := hI.iterAt hit (pos + (Utf8.decode S pos).2)
      have hit2 := Lib.iterAt_heap wr w2.heap.size S pos (pos + (Utf8.decode S pos).2) hit
      have hbw2 := Lib.below_iterAt hbw (k := w2.heap.size) (by omega) S (pos + (Utf8.decode S pos).2)
      have hsz2 : w.heap.size ≤ (wr.iterAt w2.heap.size S (pos + (Utf8.decode S pos).2)).heap.size := by rw [Lib.iterAt_size]; omega
      have HB := Lib.hid (brk_code (S.data.toList.drop pos) (drop_ne S pos hp))
      have HL := Lib.hid (decodeL_drop S pos)
      by_cases hlt : pos < behind
      · have SK := Lib.hid (HA.out.skip hlt)
        go_wp2
        go_roundw
        case rel => exact ⟨pos + (Utf8.decode S pos).2, behind, acc, rfl, hI2, hit2, hbw2, by rw [SK.out.1]; exact SK.out.2⟩
        case measure =>
          simp only [World.iterPos, hit2, hit]
          omega
      · by_cases hr : ((Utf8.decode S pos).1 : Int) = 65533
        · have hr' : (Utf8.decode S pos).1 = 65533 := by omega
          have HR := Lib.hid hr
          have HR' := Lib.hid hr'
          clear hr hr'
          cases hk : hasPrefix (S.data.toList.drop pos) badL with
          | true =>
            have HK := Lib.hid hk
            clear hk
            have HG := Lib.hid (HA.out.good hp (by omega) (by rw [HB.out, HK.out]; simp))
            go_wp2_with (first
              | (go_at_call 20; refine (broken_yes _ _ _ _ HR.out (by omega)).mono ?_; rintro e w' ⟨rfl, rfl⟩; rw [HK.out])
              | (go_at_call 23; refine (writeRune w.heap.size w.heap.size _ _ (by omega) (by omega) _ hI2 (by rw [byteCells_length]; omega) hsz2).mono ?_))
            rintro e W1 ⟨rfl, h1, b1, k1⟩
            go_wp2
            go_roundw
            case rel => exact ⟨pos + (Utf8.decode S pos).2, behind, acc ++ encodeRune ((Utf8.decode S pos).1 : Int), rfl, by rw [byteCells_append, byteCells_encodeRune]; exact .inr h1, k1.iter hit2 (by omega), hbw2.trans b1, HG.out⟩
            case measure =>
              simp only [World.iterPos, k1.iter hit2 (by omega), hit]
              omega
          | false =>
            have HK := Lib.hid hk
            clear hk
            have hbk : brk (S.data.toList.drop pos) = true := by rw [HB.out, HK.out, HL.out, HR'.out]; rfl
            have HG := Lib.hid (HA.out.bad hp (by omega) hbk)
            have hbl := begL_le (S.data.toList.drop pos) (drop_ne S pos hp)
            have HW : Hid ((Utf8.decode S pos).2 = 1) := Lib.hid (by rw [← HL.out, (brk_iff _).1 hbk])
            have HE : Hid (begL (S.extract pos S.size).data.toList = begL (S.data.toList.drop pos)) := Lib.hid (by rw [extract_data, List.take_of_length_le (by rw [List.length_drop, ← size_eq]; exact Nat.le_refl _)])
            clear hbk
            go_wp2_with (first
              | (go_at_call 20; refine (broken_yes _ _ _ _ HR.out (by omega)).mono ?_; rintro e w' ⟨rfl, rfl⟩; rw [HK.out])
              | (go_at_call 21; refine (writeString w.heap.size w.heap.size _ _ _ hI2 (by rw [byteCells_length]; have := strSize [239, 191, 189]; simp at this; omega) hsz2).mono ?_))
            rintro e W1 ⟨rfl, h1, b1, k1⟩
            go_wp2_with (go_at_call 22; refine (beginning_any _ _ (by rw [ByteArray.size_extract]; omega) (by rw [ByteArray.size_extract]; unfold maxLen; omega)).mono ?_)
            rintro e w' ⟨rfl, nq, rfl⟩
            rw [HE.out]
            go_wp2
            go_roundw
            case rel => exact ⟨pos + (Utf8.decode S pos).2, pos + begL (S.data.toList.drop pos), acc ++ badL, by go_num, by rw [byteCells_append, ← strCells_bad]; exact .inr h1, k1.iter hit2 (by omega), below_drewN (hbw2.trans b1) nq, by rw [HW.out]; exact HG.out⟩
            case measure =>
              simp only [World.iterPos, World.heap_drewN, k1.iter hit2 (by omega), hit]
              omega
        · have HG := Lib.hid (HA.out.good hp (by omega) (by rw [HB.out, HL.out, decide_eq_false (by omega)]; rfl))
          go_wp2_with (first
            | (go_at_call 20; refine (broken_no _ _ _ _ hr).mono ?_; rintro e w' ⟨rfl, rfl⟩)
            | (go_at_call 23; refine (writeRune w.heap.size w.heap.size _ _ (by omega) (by omega) _ hI2 (by rw [byteCells_length]; omega) hsz2).mono ?_))
          rintro e W1 ⟨rfl, h1, b1, k1⟩
          go_wp2
          go_roundw
          case rel => exact ⟨pos + (Utf8.decode S pos).2, behind, acc ++ encodeRune ((Utf8.decode S pos).1 : Int), rfl, by rw [byteCells_append, byteCells_encodeRune]; exact .inr h1, k1.iter hit2 (by omega), hbw2.trans b1, HG.out⟩
          case measure =>
            simp only [World.iterPos, k1.iter hit2 (by omega), hit]
            omega
    · have hnx : ∀ ty, (Instr.next (.pointer (some ⟨w2.heap.size, 0, none⟩)) true ty).run Try.prog wr = _ := fun ty => Lib.run_next_end_at wr w2.heap.size S pos ty hit hp
      go_wp2_with (go_at_call 24; refine (Try.Builder_String_any_k w.heap.size w.heap.size acc _ hI (by omega)).mono ?_)
      rintro e W1 ⟨rfl, _, b1, _⟩
      go_wp2
      go_ret
      exact ⟨ret_str (by rw [HD.out, ← HA.out.end hp]), hbw.trans b1⟩

end Go.Proofs.Ytafghfljbelgdaa
