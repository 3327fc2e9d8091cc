/-
  What the document's Text of layer 12 answers.
-/
import Derived.Test.YtameddkmbfcnoaaGreatDoorRawRef
import Derived.Test.YtameddkmbfcnoaaGreatDoorRawText
import Derived.Test.YtameddkmbfcnoaaGreatDoorP4
import Derived.Test.YtameddkmbfcnoaaGreatDoorP6
namespace Go.Proofs.YtameddkmbfcnoaaGreatDoor
open Go.RowKit Go.Lib

set_option maxRecDepth 100000 in
set_option maxHeartbeats 1000000 in
theorem refText12_any (s : ByteArray) (refs : Bool) (w : World) (hs : s.size ≤ 1048576) :
    Calls Tryz.prog 10 #[.string s, .bool refs] w fun e w' => e = .returned (.string ⟨(rawT refs s.data.toList).toArray⟩) ∧ Below w.heap.size w w' := by
  unfold rawT
  cases refs
  · rw [if_neg Bool.false_ne_true]
    have HC := fun w => Lib.hid (refClean_any s w (by omega))
    go_enter Tryz.func10, Tryz.ntmps10
    go_wp2_with (fail)
    refine (HC _).out.mono ?_
    rintro e w1 ⟨rfl, b1⟩
    go_wp2
    go_ret
    exact ⟨rfl, b1⟩
  · rw [if_pos rfl]
    have HD := fun w => Lib.hid (refDecode_any s false w (by omega))
    have hl := dd_len false s.data.toList.length s.data.toList (Nat.le_refl _)
    rw [← Lib.size_eq] at hl
    have HC := fun w => Lib.hid (refClean_any ⟨(ddL false s.data.toList).toArray⟩ w (by rw [Lib.size_eq, List.toList_toArray]; omega))
    obtain ⟨X, hX⟩ : ∃ X : ByteArray, (⟨(ddL false s.data.toList).toArray⟩ : ByteArray) = X := ⟨_, rfl⟩
    obtain ⟨Y, hY⟩ : ∃ X : ByteArray, (⟨(cleanL (ddL false s.data.toList)).toArray⟩ : ByteArray) = X := ⟨_, rfl⟩
    have hXl : X.data.toList = ddL false s.data.toList := by rw [← hX, List.toList_toArray]
    rw [hX] at HC HD
    rw [hXl, hY] at HC
    rw [hY]
    clear hX hXl hY hl
    go_enter Tryz.func10, Tryz.ntmps10
    go_wp2_with (fail)
    refine (HD _).out.mono ?_
    rintro e w1 hd
    obtain ⟨rfl, b1⟩ := hd
    go_wp2_with (fail)
    refine (HC _).out.mono ?_
    rintro e w2 ⟨rfl, b2⟩
    go_wp2
    go_ret
    exact ⟨rfl, by first | exact b1.trans (b2.mono b1.size) | (obtain ⟨n, rfl⟩ := b1; exact (dr_below _ _ n).trans b2)⟩
end Go.Proofs.YtameddkmbfcnoaaGreatDoor
