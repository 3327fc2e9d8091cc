/-
  The chapter's examples, at every world: what 'awake' of layer 1 answers is true.
-/
import Derived.Test.YtnbafhaajckdcaaDoorUtfDec
namespace Go.Proofs.YtnbafhaajckdcaaDoor
open Go.RowKit Go.Lib

theorem dec_ex1 : (⟨(dec [65, 255, 66]).toArray⟩ : ByteArray) = ⟨#[65, 239, 191, 189, 66]⟩ := by
  rw [show dec [65, 255, 66] = [65, 239, 191, 189, 66] by decide +kernel]
theorem dec_ex2 : (⟨(dec [226, 130]).toArray⟩ : ByteArray) = ⟨#[239, 191, 189]⟩ := by
  rw [show dec [226, 130] = [239, 191, 189] by decide +kernel]
theorem dec_ex3 : (⟨(dec [224, 128]).toArray⟩ : ByteArray) = ⟨#[239, 191, 189, 239, 191, 189]⟩ := by
  rw [show dec [224, 128] = [239, 191, 189, 239, 191, 189] by decide +kernel]
theorem sign_ex : (⟨(encodeRune 65).toArray⟩ : ByteArray) = ⟨#[65]⟩ := by
  rw [show encodeRune 65 = [65] by decide +kernel]
theorem right_ex : validD (ByteArray.mk #[65]).data.toList = true := by decide +kernel

/-- a new row of bytes -/
theorem isBytes_new (w : World) (C : Array Value) (t : TypeId) (l : List UInt8) (h : C.toList = byteCells l) (hm : l.length ≤ maxLen) :
    IsBytes (w.alloc (.cells C t)) (.slice (some ⟨w.heap.size, 0, none⟩) l.length l.length) l := by
  refine .inr ⟨_, _, rfl, Nat.le_refl _, hm, fun i hi => ?_⟩
  have e : (⟨w.heap.size, 0, none⟩ : Addr).add i = ⟨w.heap.size, i, none⟩ := by simp [Addr.add]; omega
  rw [e, World.cell?_alloc_mark, ← Array.getElem?_toList, h, byteCells, List.getElem?_map, List.getElem?_eq_getElem hi]
  rfl

end Go.Proofs.YtnbafhaajckdcaaDoor
