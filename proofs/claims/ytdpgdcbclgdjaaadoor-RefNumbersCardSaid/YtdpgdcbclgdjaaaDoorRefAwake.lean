/-
  The chapter's examples, as the statements of layer 7 ask for them.
-/
import Derived.Test.YtdpgdcbclgdjaaaDoorRefDec
import Derived.KernelRfl
namespace Go.Proofs.YtdpgdcbclgdjaaaDoor
open Go.RowKit Go.Lib

set_option maxRecDepth 100000 in
theorem rx1 : rdT [38, 110, 111, 116, 105, 116, 59] 0 false = [194, 172] ∧ rdN [38, 110, 111, 116, 105, 116, 59] 0 = 4 := ⟨by kernel_rfl, by kernel_rfl⟩
theorem rx2 : ddL false [38, 97, 109, 112, 59, 108, 116, 59] = [38, 108, 116, 59] := dd_amps false [38, 108, 116, 59]
set_option maxRecDepth 100000 in
theorem rx3 : ddL true [38, 99, 111, 112, 121, 61, 49] = [38, 99, 111, 112, 121, 61, 49] := by kernel_rfl
set_option maxRecDepth 100000 in
theorem rx4 : ddL false [38, 99, 111, 112, 121, 61, 49] = [194, 169, 61, 49] := by kernel_rfl

set_option maxRecDepth 100000 in
set_option maxHeartbeats 1000000 in
theorem refAwake_any (w : World) (hT : TabAt w) (hE : ErrAt w) :
    Calls Tryd.prog 9 #[] w fun e w' => e = .returned (.bool true) ∧ Below w.heap.size w w' := by
  have H1 : ∀ w, TabAt w → ErrAt w → Hid (Calls Tryd.prog 10 #[.string ⟨#[38, 110, 111, 116, 105, 116, 59]⟩, .int .i64 0, .bool false] w fun e w' => e = .returned (.tuple #[.string ⟨#[194, 172]⟩, .int .i64 4]) ∧ Below w.heap.size w w') := fun w h1 h2 => Lib.hid (by
    have := rd_any ⟨#[38, 110, 111, 116, 105, 116, 59]⟩ 0 false w (by decide) (by decide) h1 h2
    rw [show (ByteArray.mk #[38, 110, 111, 116, 105, 116, 59]).data.toList = [38, 110, 111, 116, 105, 116, 59] from rfl, rx1.1, rx1.2] at this; exact this)
  have H2 : ∀ w, TabAt w → ErrAt w → Hid (Calls Tryd.prog 12 #[.string ⟨#[38, 97, 109, 112, 59, 108, 116, 59]⟩, .bool false] w fun e w' => e = .returned (.string ⟨#[38, 108, 116, 59]⟩) ∧ Below w.heap.size w w') := fun w h1 h2 => Lib.hid (by
    have := decode_any ⟨#[38, 97, 109, 112, 59, 108, 116, 59]⟩ false w (by decide) h1 h2
    rw [show (ByteArray.mk #[38, 97, 109, 112, 59, 108, 116, 59]).data.toList = [38, 97, 109, 112, 59, 108, 116, 59] from rfl, rx2] at this; exact this)
  have H3 : ∀ w, TabAt w → ErrAt w → Hid (Calls Tryd.prog 12 #[.string ⟨#[38, 99, 111, 112, 121, 61, 49]⟩, .bool true] w fun e w' => e = .returned (.string ⟨#[38, 99, 111, 112, 121, 61, 49]⟩) ∧ Below w.heap.size w w') := fun w h1 h2 => Lib.hid (by
    have := decode_any ⟨#[38, 99, 111, 112, 121, 61, 49]⟩ true w (by decide) h1 h2
    rw [show (ByteArray.mk #[38, 99, 111, 112, 121, 61, 49]).data.toList = [38, 99, 111, 112, 121, 61, 49] from rfl, rx3] at this; exact this)
  have H4 : ∀ w, TabAt w → ErrAt w → Hid (Calls Tryd.prog 12 #[.string ⟨#[38, 99, 111, 112, 121, 61, 49]⟩, .bool false] w fun e w' => e = .returned (.string ⟨#[194, 169, 61, 49]⟩) ∧ Below w.heap.size w w') := fun w h1 h2 => Lib.hid (by
    have := decode_any ⟨#[38, 99, 111, 112, 121, 61, 49]⟩ false w (by decide) h1 h2
    rw [show (ByteArray.mk #[38, 99, 111, 112, 121, 61, 49]).data.toList = [38, 99, 111, 112, 121, 61, 49] from rfl, rx4] at this; exact this)
  have HT := Lib.hid hT
  have HE := Lib.hid hE
  clear hT hE
  go_enter Tryd.func9, Tryd.ntmps9
  go_wp2_with (fail)
  refine (H1 _ HT.out HE.out).out.mono ?_
  rintro e w1 ⟨rfl, b1⟩
  go_wp2_with (fail)
  refine (H2 _ (HT.out.below b1) (HE.out.below b1)).out.mono ?_
  rintro e w2 ⟨rfl, b2⟩
  have b3 := b1.trans (b2.mono b1.size)
  go_wp2_with (fail)
  refine (H3 _ (HT.out.below b3) (HE.out.below b3)).out.mono ?_
  rintro e w3 ⟨rfl, b4⟩
  have b5 := b3.trans (b4.mono b3.size)
  go_wp2_with (fail)
  refine (H4 _ (HT.out.below b5) (HE.out.below b5)).out.mono ?_
  rintro e w4 ⟨rfl, b6⟩
  have b7 := b5.trans (b6.mono b5.size)
  go_wp2
  go_ret
  exact ⟨rfl, b7⟩
end Go.Proofs.YtdpgdcbclgdjaaaDoor
