/-
  The chapter's examples, at every world: what 'awake' of layer 1 answers is true.
-/
import Derived.Test.YtafghfljbelgdaaUtfDec
namespace Go.Proofs.Ytafghfljbelgdaa
open Go.RowKit Go.Lib

theorem dec_ex1 : (⟨(dec [65, 255, 66]).toArray⟩ : ByteArray) = ⟨#[65, 239, 191, 189, 66]⟩ := by
  rw [show dec [65, 255, 66] = [65, 239, 191, 189, 66] by decide +kernel]
theorem dec_ex2 : (⟨(dec [226, 130]).toArray⟩ : ByteArray) = ⟨#[239, 191, 189]⟩ := by
  rw [show dec [226, 130] = [239, 191, 189] by decide +kernel]
theorem dec_ex3 : (⟨(dec [224, 128]).toArray⟩ : ByteArray) = ⟨#[239, 191, 189, 239, 191, 189]⟩ := by
  rw [show dec [224, 128] = [239, 191, 189, 239, 191, 189] by decide +kernel]
theorem sign_ex : (⟨(encodeRune 65).toArray⟩ : ByteArray) = ⟨#[65]⟩ := by
  rw [show encodeRune 65 = [65] by decide +kernel]
theorem right_ex : validD (ByteArray.mk #[65]).data.toList = true := by decide +kernel

/-- a new row of bytes -/
theorem isBytes_new (w : World) (C : Array Value) (t : TypeId) (l : List UInt8) (h : C.toList = byteCells l) (hm : l.length ≤ maxLen) :
    IsBytes (w.alloc (.cells C t)) (.slice (some ⟨w.heap.size, 0, none⟩) l.length l.length) l := by
  refine .inr ⟨_, _, rfl, Nat.le_refl _, hm, fun i hi => ?_⟩
  have e : (⟨w.heap.size, 0, none⟩ : Addr).add i = ⟨w.heap.size, i, none⟩ := by simp [Addr.add]; omega
  rw [e, World.cell?_alloc_mark, ← Array.getElem?_toList, h, byteCells, List.getElem?_map, List.getElem?_eq_getElem hi]
  rfl

set_option maxRecDepth 100000 in
set_option maxHeartbeats 4000000 in
theorem awake_any (w : World) :
    Calls Try.prog 10 #[] w fun e w' => e = .returned (.bool true) ∧ Below w.heap.size w w' := by
  go_enter Try.func10, Try.ntmps10
  go_wp2_with (fail)
  refine (decode_any _ [65, 255, 66] _ (isBytes_new _ _ _ [65, 255, 66] rfl (by decide)) (by decide)).mono ?_
  rintro e w1 ⟨rfl, hb1⟩
  rw [dec_ex1]
  have hs1 := hb1.size
  simp at hs1
  go_wp2_with (fail)
  refine (decode_any _ [226, 130] _ (isBytes_new _ _ _ [226, 130] rfl (by decide)) (by decide)).mono ?_
  rintro e w2 ⟨rfl, hb2⟩
  rw [dec_ex2]
  have hs2 := hb2.size
  simp at hs2
  go_wp2_with (fail)
  refine (decode_any _ [224, 128] _ (isBytes_new _ _ _ [224, 128] rfl (by decide)) (by decide)).mono ?_
  rintro e w3 ⟨rfl, hb3⟩
  rw [dec_ex3]
  have hs3 := hb3.size
  simp at hs3
  go_wp2_with (fail)
  refine (sign_any 65 _).mono ?_
  rintro e w4 ⟨rfl, rfl⟩
  rw [sign_ex]
  go_wp2_with (fail)
  refine (right_any ⟨#[65]⟩ _).mono ?_
  rintro e w5 ⟨rfl, hb5⟩
  rw [right_ex]
  go_wp2
  go_ret
  refine ⟨rfl, ?_⟩
  have B1 : Below w.heap.size w w1 := ((Below.refl _ w).alloc (Nat.le_refl _) _).trans (hb1.mono (by simp))
  have B2 : Below w.heap.size w w2 := (B1.alloc (by omega) _).trans (hb2.mono (by simp; omega))
  have B3 : Below w.heap.size w w3 := (B2.alloc (by omega) _).trans (hb3.mono (by simp; omega))
  exact B3.trans (hb5.mono (by omega))

end Go.Proofs.Ytafghfljbelgdaa
