/-
  What the document's answers of layer 14 are.
-/
import Derived.Test.YtcamkphanakkdaaGreatDoorTxtMath
import Derived.Test.YtcamkphanakkdaaGreatDoorTagRef
import Derived.Test.YtcamkphanakkdaaGreatDoorComRef
import Derived.Test.YtcamkphanakkdaaGreatDoorDtRef
import Derived.Test.YtcamkphanakkdaaGreatDoorP6
import Derived.Test.YtcamkphanakkdaaGreatDoorP1
namespace Go.Proofs.YtcamkphanakkdaaGreatDoor
open Go.RowKit Go.Lib

set_option maxRecDepth 100000 in
set_option maxHeartbeats 1000000 in
theorem refBegins14_any (s : ByteArray) (a : Int) (w : World) (hs : s.size ≤ 1048576) (ha : -9223372036854775808 ≤ a ∧ a ≤ 9223372036854775807) :
    Calls Tryz.prog 8 #[.string s, .int .i64 a] w fun e w' => e = .returned (.bool (mkV s.data.toList a)) ∧ Below w.heap.size w w' := by
  have H1 := fun w => Lib.hid (refBegins9_any s a w hs ha)
  have H2 := fun w => Lib.hid (refBegins10_any s a w hs ha)
  have H3 := fun w => Lib.hid (refBegins11_any s a w hs ha)
  have H4 := fun w => Lib.hid (refBegins s a ⟨#[60, 47, 62]⟩ w (by omega) (by decide) ha.1 ha.2)
  rw [beg_emp] at H4
  rw [mk_four]
  obtain ⟨b1, hb1⟩ : ∃ b, begV s.data.toList a = b := ⟨_, rfl⟩
  obtain ⟨b2, hb2⟩ : ∃ b, cbegV s.data.toList a = b := ⟨_, rfl⟩
  obtain ⟨b3, hb3⟩ : ∃ b, dbegV s.data.toList a = b := ⟨_, rfl⟩
  obtain ⟨b4, hb4⟩ : ∃ b, ebegV s.data.toList a = b := ⟨_, rfl⟩
  rw [hb1] at H1 ⊢
  rw [hb2] at H2 ⊢
  rw [hb3] at H3 ⊢
  rw [hb4] at H4 ⊢
  clear hb1 hb2 hb3 hb4 ha
  cases b1
  · cases b2
    · cases b3
      · go_enter Tryz.func8, Tryz.ntmps8
        go_wp2_with (fail)
        refine (H1 _).out.mono ?_
        rintro e w1 ⟨rfl, rfl⟩
        go_wp2_with (fail)
        refine (H2 _).out.mono ?_
        rintro e w2 ⟨rfl, c2⟩
        go_wp2_with (fail)
        refine (H3 _).out.mono ?_
        rintro e w3 ⟨rfl, c3⟩
        go_wp2_with (fail)
        refine (H4 _).out.mono ?_
        rintro e w4 ⟨rfl, c4⟩
        go_wp2
        go_ret
        exact ⟨ret_bool (by simp), (c2.trans (c3.mono c2.size)).trans (c4.mono (Nat.le_trans c2.size c3.size))⟩
      · go_enter Tryz.func8, Tryz.ntmps8
        go_wp2_with (fail)
        refine (H1 _).out.mono ?_
        rintro e w1 ⟨rfl, rfl⟩
        go_wp2_with (fail)
        refine (H2 _).out.mono ?_
        rintro e w2 ⟨rfl, c2⟩
        go_wp2_with (fail)
        refine (H3 _).out.mono ?_
        rintro e w3 ⟨rfl, c3⟩
        go_wp2
        go_ret
        exact ⟨ret_bool (by simp), c2.trans (c3.mono c2.size)⟩
    · go_enter Tryz.func8, Tryz.ntmps8
      go_wp2_with (fail)
      refine (H1 _).out.mono ?_
      rintro e w1 ⟨rfl, rfl⟩
      go_wp2_with (fail)
      refine (H2 _).out.mono ?_
      rintro e w2 ⟨rfl, c2⟩
      go_wp2
      go_ret
      exact ⟨ret_bool (by simp), c2⟩
  · go_enter Tryz.func8, Tryz.ntmps8
    go_wp2_with (fail)
    refine (H1 _).out.mono ?_
    rintro e w1 ⟨rfl, rfl⟩
    go_wp2
    go_ret
    exact ⟨ret_bool (by simp), Below.refl _ _⟩
end Go.Proofs.YtcamkphanakkdaaGreatDoor
