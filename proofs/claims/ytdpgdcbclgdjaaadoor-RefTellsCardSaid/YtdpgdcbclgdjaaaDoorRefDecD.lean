/-
  What the document's Decode of layer 7 answers, for every text.
-/
import Derived.Test.YtdpgdcbclgdjaaaDoorRefDoc
namespace Go.Proofs.YtdpgdcbclgdjaaaDoor
open Go.RowKit Go.Lib

theorem step_plain (attr : Bool) (s : ByteArray) (i : Nat) (h : i < s.size) (O : ByteArray) (hc : s[i] ≠ 38) (heq : O.data.toList ++ ddL attr (s.data.toList.drop i) = ddL attr s.data.toList) :
    (O ++ s.extract i (i + 1)).data.toList ++ ddL attr (s.data.toList.drop (i + 1)) = ddL attr s.data.toList := by
  rw [← heq, drop_at s i h, dd_plain attr _ _ hc, ByteArray.data_append, Array.toList_append, extract_one s i h, List.append_assoc]; rfl
theorem step_amp (attr : Bool) (s : ByteArray) (i : Nat) (h : i < s.size) (O : ByteArray) (hc : s[i] = 38) (heq : O.data.toList ++ ddL attr (s.data.toList.drop i) = ddL attr s.data.toList) :
    (O.data.toList ++ refT (s.data.toList.drop (i + 1)) attr) ++ ddL attr (s.data.toList.drop (i + 1 + refM (s.data.toList.drop (i + 1)))) = ddL attr s.data.toList ∧ i + 1 + refM (s.data.toList.drop (i + 1)) ≤ s.size := by
  constructor
  · rw [← heq, drop_at s i h, hc, dd_amp, List.append_assoc, List.drop_drop]
  · have h1 := refM_le (s.data.toList.drop (i + 1))
    rw [List.length_drop, ← Lib.size_eq] at h1
    omega

set_option maxRecDepth 100000 in
set_option maxHeartbeats 4000000 in
/-- P7.2, the document's answer -/
theorem refDecode_any (s : ByteArray) (attr : Bool) (w : World) (hs : s.size ≤ 1099511627776) :
    Calls Tryd.prog 13 #[.string s, .bool attr] w fun e w' => e = .returned (.string ⟨(ddL attr s.data.toList).toArray⟩) ∧ Below w.heap.size w w' := by
  go_enter Tryd.func13, Tryd.ntmps13
  go_wp2
  go_loopw [5, 6] (fun o v wr => ∃ (i : Nat) (O : ByteArray), o = .string O ∧ v = .int .i64 (i : Int) ∧ Below w.heap.size w wr ∧ i ≤ s.size ∧ O.data.toList ++ ddL attr (s.data.toList.drop i) = ddL attr s.data.toList ∧ O.size ≤ 3 * i) (fun _ v _ => s.size - (intOf v).toNat)
  case atStart => exact ⟨0, ⟨#[]⟩, rfl, rfl, Below.refl _ w, Nat.zero_le _, rfl, Nat.zero_le _⟩
  case round =>
    obtain ⟨i, O, rfl, rfl, hbw, hle, heq, hO⟩ := hrel
    by_cases hlt : i < s.size
    · by_cases h38 : s[i] = 38
      · have b38 : (((s[i].toNat : Nat) : Int) != 38) = false := byte_ne _ 38 (by decide) h38
        obtain ⟨e1, e2⟩ := step_amp attr s i hlt O h38 heq
        have hg : s.data.toList.getD i 0 = 38 := by rw [getD_is s i hlt]; exact h38
        obtain ⟨r1, r2⟩ := rd_yes s.data.toList i attr hg
        have ht := (refT_len (s.data.toList.drop (i + 1)) attr).2
        have HR := fun w => Lib.hid (dc_any s (i : Int) attr w hs (by omega))
        rw [r1, r2, show (i : Int) + 1 + (refM (s.data.toList.drop (i + 1)) : Int) = ((i + 1 + refM (s.data.toList.drop (i + 1)) : Nat) : Int) by omega] at HR
        obtain ⟨M, hM⟩ : ∃ M, i + 1 + refM (s.data.toList.drop (i + 1)) = M := ⟨_, rfl⟩
        rw [hM] at HR e1 e2
        obtain ⟨X, hX⟩ : ∃ X : ByteArray, ⟨(refT (s.data.toList.drop (i + 1)) attr).toArray⟩ = X := ⟨_, rfl⟩
        have hXl : X.data.toList = refT (s.data.toList.drop (i + 1)) attr := by rw [← hX, List.toList_toArray]
        have hXn : X.size = (refT (s.data.toList.drop (i + 1)) attr).length := by rw [Lib.size_eq, hXl]
        have hXs : O.size + X.size ≤ 3 * M := by omega
        have hM1 : i < M := by omega
        have hov : ¬ 9223372036854775807 < O.size + X.size := by omega
        have HE := Lib.hid (show (O ++ X).data.toList ++ ddL attr (s.data.toList.drop M) = ddL attr s.data.toList by
          rw [ByteArray.data_append, Array.toList_append, hXl]; exact e1)
        rw [hX] at HR
        clear hX hXl hXn ht e1 heq h38 hg r1 r2 hM
        go_wp2_with (fail)
        refine (HR _).out.mono ?_
        rintro e w1 ⟨rfl, b1⟩
        have B1 := hbw.trans (b1.mono hbw.size)
        go_wp2
        go_roundw
        case rel => exact ⟨M, _, rfl, rfl, B1, e2, HE.out, by rw [ByteArray.size_append]; omega⟩
        case measure => simp [intOf]; omega
      · have b38 : (((s[i].toNat : Nat) : Int) != 38) = true := by
          rw [bne_iff_ne]; exact fun h => h38 (u8_eq _ 38 (by decide) h)
        have HE := Lib.hid (step_plain attr s i hlt O h38 heq)
        clear heq h38
        go_wp2
        go_roundw
        case rel => exact ⟨i + 1, _, rfl, rfl, hbw, by omega, HE.out, by simp; omega⟩
        case measure => simp [intOf]; omega
    · have HE := Lib.hid heq
      clear heq
      go_wp2
      go_ret
      refine ⟨ret_str ?_, hbw⟩
      have := HE.out
      rw [List.drop_eq_nil_of_le (by rw [← Lib.size_eq]; omega), dd_nil, List.append_nil] at this
      rw [← this]
end Go.Proofs.YtdpgdcbclgdjaaaDoor
