/-
  The program's flow among other objects of a call: what its methods do; the chapter's example.
-/
import Derived.Test.YtddikahfenjnaaaFloCode
import Derived.KernelRfl
import Derived.WalkKit
import Derived.Test.YtddikahfenjnaaaSmall
namespace Go.Proofs.Ytddikahfenjnaaa
open Go.RowKit Go.Lib

/-- a flow that has been made -/
abbrev Flo (w0 w : World) (g : Addr) (f : FloP) (R : Own) : Prop := Made w0 w (Sep (FloO g f) R)
theorem flo_lies (g : Addr) (f : FloP) {R : Own} (hR : Lies R) : Lies (Sep (FloO g f) R) := (floO_lies g f).sep hR
theorem newM_any (w0 w : World) (R : Own) (hR : Lies R) (h : Made w0 w R) :
    Calls Try.prog 11 #[] w fun e w' => ∃ g, e = .returned (.pointer (some g)) ∧ Flo w0 w' g flo0 R := by
  refine (floNew_any w).mono ?_
  rintro e w' ⟨g, F, rfl, hF, hn, hb⟩
  exact ⟨g, rfl, h.more hR hb hF hn⟩
theorem putM_any (w0 w : World) (g : Addr) (f : FloP) (R : Own) (hR : Lies R) (h : Flo w0 w g f R) (s : ByteArray) (keep : Bool) (hs : f.size + s.size ≤ 1073741824) :
    Calls Try.prog 16 #[.pointer (some g), .string s, .bool keep] w fun e w' => e = .returned (.tuple #[]) ∧ Flo w0 w' g (putL keep f s.data.toList) R :=
  Made.call h hR fun F hF => floPut_any g f s keep w F hF hs
theorem breakM_any (w0 w : World) (g : Addr) (f : FloP) (R : Own) (hR : Lies R) (h : Flo w0 w g f R) (n : Int) (hs : f.size ≤ 1073741824) (hn : -9223372036854775808 ≤ n ∧ n ≤ 9223372036854775807) :
    Calls Try.prog 18 #[.pointer (some g), .int .i64 n] w fun e w' => e = .returned (.tuple #[]) ∧ Flo w0 w' g (brkF n f) R :=
  Made.call h hR fun F hF => floBreak_any g f n w F hF hs hn
theorem lineM_any (w0 w : World) (g : Addr) (f : FloP) (R : Own) (hR : Lies R) (h : Flo w0 w g f R) (hs : f.size ≤ 1073741824) :
    Calls Try.prog 17 #[.pointer (some g)] w fun e w' => e = .returned (.tuple #[]) ∧ Flo w0 w' g (lineF f) R :=
  Made.call h hR fun F hF => floLine_any g f w F hF hs
theorem textM_any (w0 w : World) (g : Addr) (f : FloP) (R : Own) (hR : Lies R) (h : Flo w0 w g f R) (hs : f.size ≤ 1073741824) :
    Calls Try.prog 14 #[.pointer (some g)] w fun e w' => e = .returned (.string ⟨f.told.toArray⟩) ∧ Flo w0 w' g f R :=
  Made.call h hR fun F hF => floText_any g f w F hF hs

/-! the chapter's example -/
def exA : FloP := putL false flo0 [97, 32, 32, 98]
def exB0 : FloP := putL false flo0 [120]
def exB1 : FloP := brkF 2 exB0
def exB2 : FloP := brkF 1 exB1
def exB : FloP := putL false exB2 [121]
theorem ex_told : exA.told = [97, 32, 98] ∧ exB.told = [120, 10, 10, 121] := by constructor <;> kernel_rfl
theorem ex_size : flo0.size = 0 ∧ exA.size ≤ 100 ∧ exB0.size ≤ 100 ∧ exB1.size ≤ 100 ∧ exB2.size ≤ 100 ∧ exB.size ≤ 100 := by decide +kernel

set_option maxRecDepth 100000 in
set_option maxHeartbeats 4000000 in
theorem floAwake_any (w : World) :
    Calls Try.prog 9 #[] w fun e w' => e = .returned (.bool true) ∧ Below w.heap.size w w' := by
  obtain ⟨t1, t2⟩ := ex_told
  obtain ⟨s0, s1, s2, s3, s4, s5⟩ := ex_size
  have H0 := Lib.hid (Made.nothing w)
  have C1 := fun w' h => Lib.hid (newM_any w w' Emp Lies.emp h)
  have C2 := fun g1 w' h => Lib.hid (newM_any w w' (Sep (FloO g1 flo0) Emp) (flo_lies g1 flo0 Lies.emp) h)
  have C3 := fun g1 g2 w' h => Lib.hid (putM_any w w' g1 flo0 (Sep (FloO g2 flo0) Emp) (flo_lies g2 flo0 Lies.emp) h ⟨#[97, 32, 32, 98]⟩ false (by rw [s0]; decide))
  have C4 := fun g1 g2 w' h => Lib.hid (putM_any w w' g2 flo0 (Sep (FloO g1 exA) Emp) (flo_lies g1 exA Lies.emp) h ⟨#[120]⟩ false (by rw [s0]; decide))
  have C5 := fun g1 g2 w' h => Lib.hid (breakM_any w w' g2 exB0 (Sep (FloO g1 exA) Emp) (flo_lies g1 exA Lies.emp) h 2 (by omega) (by decide))
  have C6 := fun g1 g2 w' h => Lib.hid (breakM_any w w' g2 exB1 (Sep (FloO g1 exA) Emp) (flo_lies g1 exA Lies.emp) h 1 (by omega) (by decide))
  have C7 := fun g1 g2 w' h => Lib.hid (putM_any w w' g2 exB2 (Sep (FloO g1 exA) Emp) (flo_lies g1 exA Lies.emp) h ⟨#[121]⟩ false (by
    have : (⟨#[121]⟩ : ByteArray).size = 1 := rfl
    omega))
  have C8 := fun g1 g2 w' h => Lib.hid (textM_any w w' g1 exA (Sep (FloO g2 exB) Emp) (flo_lies g2 exB Lies.emp) h (by omega))
  have C9 := fun g1 g2 w' h => Lib.hid (textM_any w w' g2 exB (Sep (FloO g1 exA) Emp) (flo_lies g1 exA Lies.emp) h (by omega))
  rw [t1] at C8
  rw [t2] at C9
  clear s0 s1 s2 s3 s4 s5 t1 t2
  go_enter Try.func9, Try.ntmps9
  go_wp2_with (fail)
  refine (C1 _ H0.out).out.mono ?_
  rintro e w1 ⟨g1, rfl, m1⟩
  have M1 := Lib.hid m1
  clear m1
  go_wp2_with (fail)
  refine (C2 g1 _ M1.out).out.mono ?_
  rintro e w2 ⟨g2, rfl, m2⟩
  have M2 := Lib.hid (show Flo w w2 g1 flo0 (Sep (FloO g2 flo0) Emp) from m2.turn)
  clear m2 M1
  go_wp2_with (fail)
  refine (C3 g1 g2 _ M2.out).out.mono ?_
  rintro e w3 ⟨rfl, m3⟩
  have M3 := Lib.hid m3.turn
  clear m3 M2
  go_wp2_with (fail)
  refine (C4 g1 g2 _ M3.out).out.mono ?_
  rintro e w4 ⟨rfl, m4⟩
  have M4 := Lib.hid m4
  clear m4 M3
  go_wp2_with (fail)
  refine (C5 g1 g2 _ M4.out).out.mono ?_
  rintro e w5 ⟨rfl, m5⟩
  have M5 := Lib.hid m5
  clear m5 M4
  go_wp2_with (fail)
  refine (C6 g1 g2 _ M5.out).out.mono ?_
  rintro e w6 ⟨rfl, m6⟩
  have M6 := Lib.hid m6
  clear m6 M5
  go_wp2_with (fail)
  refine (C7 g1 g2 _ M6.out).out.mono ?_
  rintro e w7 ⟨rfl, m7⟩
  have M7 := Lib.hid m7.turn
  clear m7 M6
  go_wp2_with (first
    | (refine (C8 g1 g2 _ M7.out).out.mono ?_; rintro e w8 ⟨rfl, m8⟩; have M8 := Lib.hid m8.turn; clear m8)
    | (refine (C9 g1 g2 _ M8.out).out.mono ?_; rintro e w9 ⟨rfl, m9⟩; have M9 := Lib.hid m9; clear m9))
  go_ret
  exact ⟨ret_bool (by simp), M9.out.bel⟩
end Go.Proofs.Ytddikahfenjnaaa
