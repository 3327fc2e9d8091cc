/-
  The chapter's examples, as the statements of layer 6 ask for them.
-/
import Derived.Test.YtnbafhaajckdcaaDoorNamCode
import Derived.KernelRfl
namespace Go.Proofs.YtnbafhaajckdcaaDoor
open Go.RowKit Go.Lib

theorem fl_self (n : Nat) (h : n < 2 ^ 53) : (FloatKind.f64.format.order (fl n) (fl n) == some .eq) = true := by
  rw [fl_order n n h h, Nat.compare_eq_eq.2 rfl]; rfl
theorem fl_38 : fl 38 = 4630544841867001856 := by decide
theorem fl_8770 : fl 8770 = 4666046972816261120 := by decide
theorem fl_824 : fl 824 = 4650459196469280768 := by decide
theorem aw1 : aOf (nmLook (ByteArray.mk #[97, 109, 112, 59]).data.toList) = 38 ∧ bOf (nmLook (ByteArray.mk #[97, 109, 112, 59]).data.toList) = 0 ∧ (nmLook (ByteArray.mk #[97, 109, 112, 59]).data.toList).isSome = true := ⟨by kernel_rfl, by kernel_rfl, by kernel_rfl⟩
theorem aw2 : aOf (nmLook (ByteArray.mk #[78, 111, 116, 69, 113, 117, 97, 108, 84, 105, 108, 100, 101, 59]).data.toList) = 8770 ∧ bOf (nmLook (ByteArray.mk #[78, 111, 116, 69, 113, 117, 97, 108, 84, 105, 108, 100, 101, 59]).data.toList) = 824 ∧ (nmLook (ByteArray.mk #[78, 111, 116, 69, 113, 117, 97, 108, 84, 105, 108, 100, 101, 59]).data.toList).isSome = true := ⟨by kernel_rfl, by kernel_rfl, by kernel_rfl⟩
theorem aw3 : (nmLook (ByteArray.mk #[97, 109, 112, 32]).data.toList).isSome = false := by kernel_rfl
theorem aw4 : ((nmLook (ByteArray.mk #[97, 109, 112]).data.toList).isSome && !Lib.hasSuffix (ByteArray.mk #[97, 109, 112]).data.toList [59]) = true := by kernel_rfl
theorem aw5 : ((nmLook (ByteArray.mk #[97, 109, 112, 59]).data.toList).isSome && !Lib.hasSuffix (ByteArray.mk #[97, 109, 112, 59]).data.toList [59]) = false := by kernel_rfl
theorem aw6 : bestL nmRows (winL (ByteArray.mk #[110, 111, 116, 105, 116, 59]).data.toList 0 32) = 3 := by kernel_rfl
theorem aw7 : textL 38 0 = [38] := by decide

set_option maxHeartbeats 4000000 in
set_option maxRecDepth 100000 in
theorem nmAwake_any (w : World) (hw : ErrAt w) :
    Calls Tryd.prog 8 #[] w fun e w' => e = .returned (.bool true) ∧ Below w.heap.size w w' := by
  have H1 : ∀ w, ErrAt w → Hid (Calls Tryd.prog 9 #[.string ⟨#[97, 109, 112, 59]⟩] w fun e w' => e = .returned (.tuple #[.complex .f64 4630544841867001856 0, .bool true]) ∧ Below w.heap.size w w') := fun w h => Lib.hid (by
    have := value_any ⟨#[97, 109, 112, 59]⟩ w h
    rw [aw1.1, aw1.2.1, aw1.2.2, fl_38, fl_0] at this; exact this)
  have H2 : ∀ w, ErrAt w → Hid (Calls Tryd.prog 9 #[.string ⟨#[78, 111, 116, 69, 113, 117, 97, 108, 84, 105, 108, 100, 101, 59]⟩] w fun e w' => e = .returned (.tuple #[.complex .f64 4666046972816261120 4650459196469280768, .bool true]) ∧ Below w.heap.size w w') := fun w h => Lib.hid (by
    have := value_any ⟨#[78, 111, 116, 69, 113, 117, 97, 108, 84, 105, 108, 100, 101, 59]⟩ w h
    rw [aw2.1, aw2.2.1, aw2.2.2, fl_8770, fl_824] at this; exact this)
  have H3 : ∀ w, ErrAt w → Hid (Calls Tryd.prog 9 #[.string ⟨#[97, 109, 112, 32]⟩] w fun e w' => (∃ z, e = .returned (.tuple #[z, .bool false])) ∧ Below w.heap.size w w') := fun w h => Lib.hid (by
    have := value_any ⟨#[97, 109, 112, 32]⟩ w h
    rw [aw3] at this
    exact this.mono fun e w' ⟨h1, h2⟩ => ⟨⟨_, h1⟩, h2⟩)
  have H4 : ∀ w, Hid (Calls Tryd.prog 15 #[.complex .f64 4630544841867001856 0] w fun e w' => e = .returned (.string ⟨#[38]⟩) ∧ w = w') := fun w => Lib.hid (by
    have := text_any 38 0 w (by decide) (by decide)
    rw [aw7, fl_38, fl_0] at this; exact this)
  have H5 : ∀ w, Hid (Calls Tryd.prog 12 #[.string ⟨#[110, 111, 116, 105, 116, 59]⟩, .int .i64 0] w fun e w' => e = .returned (.int .i64 3) ∧ ∃ n, w' = w.drewN n) := fun w => Lib.hid (by
    have := nmLongest_any ⟨#[110, 111, 116, 105, 116, 59]⟩ 0 w (by decide)
    rw [aw6] at this; exact this)
  have H6 : ∀ w, Hid (Calls Tryd.prog 11 #[.string ⟨#[97, 109, 112]⟩] w fun e w' => e = .returned (.bool true) ∧ Below w.heap.size w w') := fun w => Lib.hid (by
    have := short_any ⟨#[97, 109, 112]⟩ w (by decide)
    rw [aw4] at this; exact this)
  have H7 : ∀ w, Hid (Calls Tryd.prog 11 #[.string ⟨#[97, 109, 112, 59]⟩] w fun e w' => e = .returned (.bool false) ∧ Below w.heap.size w w') := fun w => Lib.hid (by
    have := short_any ⟨#[97, 109, 112, 59]⟩ w (by decide)
    rw [aw5] at this; exact this)
  have c1 : (FloatKind.f64.format.order 4630544841867001856 4630544841867001856 == some .eq) = true := by have := fl_self 38 (by decide); rwa [fl_38] at this
  have c2 : (FloatKind.f64.format.order 4666046972816261120 4666046972816261120 == some .eq) = true := by have := fl_self 8770 (by decide); rwa [fl_8770] at this
  have c3 : (FloatKind.f64.format.order 4650459196469280768 4650459196469280768 == some .eq) = true := by have := fl_self 824 (by decide); rwa [fl_824] at this
  have c4 : (FloatKind.f64.format.order 0 0 == some .eq) = true := by have := fl_self 0 (by decide); rwa [fl_0] at this
  have HW := Lib.hid hw
  clear hw
  go_enter Tryd.func8, Tryd.ntmps8
  go_wp2_with (fail)
  refine (H1 _ HW.out).out.mono ?_
  rintro e w1 ⟨rfl, b1⟩
  go_wp2_with (fail)
  refine (H2 _ (HW.out.below b1)).out.mono ?_
  rintro e w2 ⟨rfl, b2⟩
  have b3 := b1.trans (b2.mono b1.size)
  go_wp2_with (fail)
  refine (H3 _ (HW.out.below b3)).out.mono ?_
  rintro e w3 ⟨⟨z, rfl⟩, b4⟩
  have b5 := b3.trans (b4.mono b3.size)
  go_wp2_with (fail)
  refine (H4 _).out.mono ?_
  rintro e w4 ⟨rfl, rfl⟩
  go_wp2_with (fail)
  refine (H5 _).out.mono ?_
  rintro e w5 ⟨rfl, n, rfl⟩
  have b6 := b5.trans (dr_below _ w3 n)
  go_wp2_with (fail)
  refine (H6 _).out.mono ?_
  rintro e w6 ⟨rfl, b7⟩
  have b8 := b6.trans (b7.mono b6.size)
  go_wp2_with (fail)
  refine (H7 _).out.mono ?_
  rintro e w7 ⟨rfl, b9⟩
  have b10 := b8.trans (b9.mono b8.size)
  go_wp2
  go_ret
  exact ⟨rfl, b10⟩
end Go.Proofs.YtnbafhaajckdcaaDoor
