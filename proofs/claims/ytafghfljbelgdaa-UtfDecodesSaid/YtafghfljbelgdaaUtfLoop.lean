/-
  What package utf's Right and Decode answer, for every argument.
-/
import Derived.Test.YtafghfljbelgdaaUtfBeg
import Derived.Lib.OthersKept
namespace Go.Proofs.Ytafghfljbelgdaa
open Go.RowKit Go.Lib

theorem drop_ne (s : ByteArray) (pos : Nat) (h : pos < s.size) : s.data.toList.drop pos ≠ [] := by
  intro h0
  have := congrArg List.length h0
  rw [List.length_drop, ← size_eq] at this
  simp at this
  omega
theorem drop_end (s : ByteArray) (pos : Nat) (h : ¬ pos < s.size) : s.data.toList.drop pos = [] :=
  List.drop_eq_nil_of_le (by rw [← size_eq]; omega)

set_option maxRecDepth 100000 in
set_option maxHeartbeats 1000000 in
/-- Right: whether a text is just signs -/
theorem right_any (s : ByteArray) (w : World) :
    Calls Try.prog 13 #[.string s] w fun e w' => e = .returned (.bool (validD s.data.toList)) ∧ Below w.heap.size w w' := by
  go_enter Try.func13, Try.ntmps13
  go_wp2
  go_loopw [] (fun wr => ∃ pos : Nat, wr.heap[w.heap.size]? = some (.stringIter s pos) ∧ Below w.heap.size w wr ∧ validD (s.data.toList.drop pos) = validD s.data.toList) (fun wr => s.size - wr.iterPos w.heap.size)
  case atStart =>
    refine ⟨0, ?_, (Below.refl _ w).alloc (Nat.le_refl _) _, rfl⟩
    have := World.iter_heap w s 0
    simpa using this
  case round =>
    obtain ⟨pos, hit, hbw, hv⟩ := hrel
    have HV := Lib.hid hv
    clear hv
    by_cases hp : pos < s.size
    · have hnx : ∀ ty, (Instr.next (.pointer (some ⟨w.heap.size, 0, none⟩)) true ty).run Try.prog wr = _ := fun ty => Lib.run_next_any_at wr w.heap.size s pos ty hit hp
      have hwd := width_pos s pos
      have hit2 := Lib.iterAt_heap wr w.heap.size s pos (pos + (Utf8.decode s pos).2) hit
      have hbw2 := Lib.below_iterAt hbw (k := w.heap.size) (Nat.le_refl _) s (pos + (Utf8.decode s pos).2)
      have HB := Lib.hid (brk_code (s.data.toList.drop pos) (drop_ne s pos hp))
      have HD := Lib.hid (validD_brk (s.data.toList.drop pos) (drop_ne s pos hp))
      have HL := Lib.hid (decodeL_drop s pos)
      by_cases hr : ((Utf8.decode s pos).1 : Int) = 65533
      · have hr' : (Utf8.decode s pos).1 = 65533 := by omega
        have HR := Lib.hid hr
        have HR' := Lib.hid hr'
        clear hr hr'
        cases hk : hasPrefix (s.data.toList.drop pos) badL with
        | true =>
          have HK := Lib.hid hk
          clear hk
          have V : Hid (validD (s.data.toList.drop (pos + (Utf8.decode s pos).2)) = validD s.data.toList) := Lib.hid (by
            rw [← HV.out, HD.out, HB.out, HK.out, HL.out, List.drop_drop]; simp)
          go_wp2_with (go_at_call 20; refine (broken_yes _ _ _ _ HR.out (by omega)).mono ?_; rintro e w' ⟨rfl, rfl⟩; rw [HK.out])
          go_roundw
          case rel => exact ⟨pos + (Utf8.decode s pos).2, hit2, hbw2, V.out⟩
          case measure =>
            simp only [World.iterPos, hit2, hit]
            omega
        | false =>
          have HK := Lib.hid hk
          clear hk
          have V : Hid (validD s.data.toList = false) := Lib.hid (by
            rw [← HV.out, HD.out, HB.out, HK.out, HL.out, HR'.out]; rfl)
          go_wp2_with (go_at_call 20; refine (broken_yes _ _ _ _ HR.out (by omega)).mono ?_; rintro e w' ⟨rfl, rfl⟩; rw [HK.out])
          go_ret
          exact ⟨ret_bool V.out.symm, hbw2⟩
      · have V : Hid (validD (s.data.toList.drop (pos + (Utf8.decode s pos).2)) = validD s.data.toList) := Lib.hid (by
          rw [← HV.out, HD.out, HB.out, HL.out, decide_eq_false (by omega), List.drop_drop]; simp)
        go_wp2_with (go_at_call 20; refine (broken_no _ _ _ _ hr).mono ?_; rintro e w' ⟨rfl, rfl⟩)
        go_roundw
        case rel => exact ⟨pos + (Utf8.decode s pos).2, hit2, hbw2, V.out⟩
        case measure =>
          simp only [World.iterPos, hit2, hit]
          omega
    · have hnx : ∀ ty, (Instr.next (.pointer (some ⟨w.heap.size, 0, none⟩)) true ty).run Try.prog wr = _ := fun ty => Lib.run_next_end_at wr w.heap.size s pos ty hit hp
      go_wp2
      go_ret
      refine ⟨ret_bool ?_, hbw⟩
      rw [← HV.out, drop_end s pos hp, validD_nil]

end Go.Proofs.Ytafghfljbelgdaa
