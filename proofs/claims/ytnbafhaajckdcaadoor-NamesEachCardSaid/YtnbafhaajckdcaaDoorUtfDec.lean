/-
  What package utf's Decode answers, for every list of bytes.
-/
import Derived.Test.YtnbafhaajckdcaaDoorUtfLoop
import Derived.Laws.IdiomStrings
import Derived.Deep.DeepFit
namespace Go.Proofs.YtnbafhaajckdcaaDoor
open Go.RowKit Go.Lib

/-- a value that is a list of bytes: nil, or a row in memory -/
def IsBytes (w : World) (v : Value) (l : List UInt8) : Prop :=
  (v = .slice none 0 0 ∧ l = []) ∨
  ∃ x cap, v = .slice (some x) l.length cap ∧ l.length ≤ cap ∧ cap ≤ maxLen ∧ ∀ i (h : i < l.length), w.cell? (x.add i) = some (.int .u8 ((l[i]'h).toNat : Int))

theorem IsBytes.conv {w : World} {v : Value} {l : List UInt8} (h : IsBytes w v l) :
    (convert 49 9 v).run Tryd.prog w = .ok (.string ⟨l.toArray⟩) w := by
  rcases h with ⟨rfl, rfl⟩ | ⟨x, cap, rfl, hl, hc, hcell⟩
  · rw [run_convert_bytes_string w 49 9 5 none 0 0 Tryd.underlying49 Tryd.underlying5 Tryd.underlying9]; rfl
  · exact run_convert_bytes_back (P := Tryd.prog) w 49 9 5 x cap l Tryd.underlying49 Tryd.underlying5 Tryd.underlying9 hcell

theorem strL (l : List UInt8) : (ByteArray.mk l.toArray).data.toList = l := by simp
theorem strSize (l : List UInt8) : (ByteArray.mk l.toArray).size = l.length := by rw [size_eq, strL]

/-- what is carried from round to round: the place, how far the longest beginning reached, what has been told -/
def DecAt (S : ByteArray) (pos behind : Nat) (acc : List UInt8) : Prop :=
  behind ≤ S.size ∧ (∀ i, pos ≤ i → i < behind → (S.data.toList.getD i 0).toNat / 64 = 2) ∧ acc ++ dec0 (S.data.toList.drop (max pos behind)) = dec0 S.data.toList ∧ acc.length ≤ 3 * max pos behind

theorem DecAt.skip {S : ByteArray} {pos behind : Nat} {acc : List UInt8} (h : DecAt S pos behind acc) (hlt : pos < behind) : Utf8.decode S pos = (65533, 1) ∧ DecAt S (pos + 1) behind acc := by
  obtain ⟨h1, h2, h3, h4⟩ := h
  refine ⟨?_, h1, fun i hi hb => h2 i (by omega) hb, ?_, ?_⟩
  · rw [← decodeL_drop]
    exact decodeL_cont _ (by rw [getD_dropU, Nat.add_zero]; exact h2 pos (Nat.le_refl _) hlt)
  · rw [show max (pos + 1) behind = max pos behind by omega]; exact h3
  · omega
theorem DecAt.bad {S : ByteArray} {pos behind : Nat} {acc : List UInt8} (h : DecAt S pos behind acc) (hp : pos < S.size) (hge : behind ≤ pos) (hk : brk (S.data.toList.drop pos) = true) :
    DecAt S (pos + 1) (pos + begL (S.data.toList.drop pos)) (acc ++ badL) := by
  obtain ⟨h1, h2, h3, h4⟩ := h
  have hb := begL_ge (S.data.toList.drop pos)
  have hl := begL_le (S.data.toList.drop pos) (drop_ne S pos hp)
  rw [List.length_drop, ← size_eq] at hl
  rw [show max pos behind = pos by omega] at h3 h4
  refine ⟨by omega, fun i hi hb => ?_, ?_, ?_⟩
  · have := beg_conts (S.data.toList.drop pos) (i - pos) (by omega) (by omega)
    rw [getD_dropU, show pos + (i - pos) = i by omega] at this
    exact this
  · rw [show max (pos + 1) (pos + begL (S.data.toList.drop pos)) = pos + begL (S.data.toList.drop pos) by omega, List.append_assoc, ← h3,
      dec0_step (S.data.toList.drop pos) (drop_ne S pos hp), hk, if_pos rfl, List.drop_drop]
  · rw [List.length_append]; simp only [badL, List.length_cons, List.length_nil]; omega
theorem DecAt.good {S : ByteArray} {pos behind : Nat} {acc : List UInt8} (h : DecAt S pos behind acc) (hp : pos < S.size) (hge : behind ≤ pos) (hk : brk (S.data.toList.drop pos) = false) :
    DecAt S (pos + (Utf8.decode S pos).2) behind (acc ++ encodeRune ((Utf8.decode S pos).1 : Int)) := by
  obtain ⟨h1, h2, h3, h4⟩ := h
  have hw := width_pos S pos
  have hl := width_enc (S.data.toList.drop pos) (drop_ne S pos hp) hk
  rw [decodeL_drop] at hl
  rw [show max pos behind = pos by omega] at h3 h4
  refine ⟨h1, fun i hi hb => by omega, ?_, ?_⟩
  · rw [show max (pos + (Utf8.decode S pos).2) behind = pos + (Utf8.decode S pos).2 by omega, List.append_assoc, ← h3,
      dec0_step (S.data.toList.drop pos) (drop_ne S pos hp), hk, if_neg (by simp), ← enc_dec _ (drop_ne S pos hp) hk, decodeL_drop, List.drop_drop]
  · rw [List.length_append, hl]; omega
theorem DecAt.end {S : ByteArray} {pos behind : Nat} {acc : List UInt8} (h : DecAt S pos behind acc) (hp : ¬ pos < S.size) : acc = dec0 S.data.toList := by
  obtain ⟨_, _, h3, _⟩ := h
  rw [drop_end S _ (by omega), dec0_nil, List.append_nil] at h3
  exact h3

theorem strCells_bad : strCells ⟨#[239, 191, 189]⟩ = byteCells badL := rfl

end Go.Proofs.YtnbafhaajckdcaaDoor
