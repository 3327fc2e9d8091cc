/-
  What package raw's Ends, Find and Text answer, where the variables hold what the program's text lays.
-/
import Derived.Test.YtameddkmbfcnoaaDoorRawFind
import Derived.Test.YtameddkmbfcnoaaDoorRawText
import Derived.Test.YtameddkmbfcnoaaDoorP6
import Derived.Test.YtameddkmbfcnoaaDoorP4
namespace Go.Proofs.YtameddkmbfcnoaaDoor
open Go.RowKit Go.Lib

theorem rawEnds_any (s : ByteArray) (a : Int) (nm : ByteArray) (w : World) (hs : s.size ≤ 1048576) (hn : nm.size ≤ 1048576) (ha : -9223372036854775808 ≤ a ∧ a ≤ 9223372036854775807) (_h : LaidAt w) :
    Calls Tryd.prog 9 #[.string s, .int .i64 a, .string nm] w fun e w' => e = .returned (.bool (endV nm.data.toList s.data.toList a)) ∧ Below w.heap.size w w' := ends_any s a nm w hs hn ha
theorem rawFind_any (s : ByteArray) (a : Int) (nm : ByteArray) (w : World) (hs : s.size ≤ 1048576) (hn : nm.size ≤ 1048576) (ha : -9223372036854775808 ≤ a ∧ a ≤ 9223372036854775807) (h : LaidAt w) :
    Calls Tryd.prog 8 #[.string s, .int .i64 a, .string nm] w fun e w' => e = .returned (.int .i64 (findV nm.data.toList s.data.toList a : Int)) ∧ Below w.heap.size w w' := find_any s a nm w hs hn ha h.max

set_option maxRecDepth 100000 in
set_option maxHeartbeats 1000000 in
theorem rawText_any (s : ByteArray) (refs : Bool) (w : World) (hs : s.size ≤ 1048576) (h : LaidAt w) :
    Calls Tryd.prog 10 #[.string s, .bool refs] w fun e w' => e = .returned (.string ⟨(rawT refs s.data.toList).toArray⟩) ∧ Below w.heap.size w w' := by
  have HT := Lib.hid h.tab
  have HE := Lib.hid h.err
  unfold rawT
  cases refs
  · rw [if_neg Bool.false_ne_true]
    have HC := fun w => Lib.hid (clean_any s w (by omega))
    clear h
    go_enter Tryd.func10, Tryd.ntmps10
    go_wp2_with (fail)
    refine (HC _).out.mono ?_
    rintro e w1 ⟨rfl, b1⟩
    go_wp2
    go_ret
    exact ⟨rfl, b1⟩
  · rw [if_pos rfl]
    have HD := fun w h1 h2 => Lib.hid (decode_any s false w (by omega) h1 h2)
    have hl := dd_len false s.data.toList.length s.data.toList (Nat.le_refl _)
    rw [← Lib.size_eq] at hl
    have HC := fun w => Lib.hid (clean_any ⟨(ddL false s.data.toList).toArray⟩ w (by rw [Lib.size_eq, List.toList_toArray]; omega))
    obtain ⟨X, hX⟩ : ∃ X : ByteArray, (⟨(ddL false s.data.toList).toArray⟩ : ByteArray) = X := ⟨_, rfl⟩
    obtain ⟨Y, hY⟩ : ∃ X : ByteArray, (⟨(cleanL (ddL false s.data.toList)).toArray⟩ : ByteArray) = X := ⟨_, rfl⟩
    have hXl : X.data.toList = ddL false s.data.toList := by rw [← hX, List.toList_toArray]
    rw [hX] at HC HD
    rw [hXl, hY] at HC
    rw [hY]
    clear hX hXl hY hl h
    go_enter Tryd.func10, Tryd.ntmps10
    go_wp2_with (fail)
    refine (HD _ HT.out HE.out).out.mono ?_
    rintro e w1 ⟨rfl, b1⟩
    go_wp2_with (fail)
    refine (HC _).out.mono ?_
    rintro e w2 ⟨rfl, b2⟩
    go_wp2
    go_ret
    exact ⟨rfl, b1.trans (b2.mono b1.size)⟩
end Go.Proofs.YtameddkmbfcnoaaDoor
