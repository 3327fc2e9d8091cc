/-
  What the document's Next and Read of layer 14 answer.
-/
import Derived.Test.YtcamkphanakkdaaGreatDoorTxtRef
namespace Go.Proofs.YtcamkphanakkdaaGreatDoor
open Go.RowKit Go.Lib

theorem nextV_go (s : ByteArray) (k : Nat) (h : k < s.size) (hm : mkB (s.data.toList.drop k) = false) : nextV s.data.toList ((k + 1 : Nat) : Int) = nextV s.data.toList (k : Int) := by
  rw [next_in s k (by omega), next_in s (k + 1) (by omega), next_step s k h hm]
theorem nextV_stop (s : ByteArray) (k : Nat) (h : k < s.size) (hm : mkB (s.data.toList.drop k) = true) : nextV s.data.toList (k : Int) = k := by
  rw [next_in s k (by omega), next_stop s k hm]
set_option maxRecDepth 100000 in
set_option maxHeartbeats 1000000 in
theorem refNext14_any (s : ByteArray) (a : Int) (w : World) (hs : s.size ≤ 1048576) (ha : -9223372036854775808 ≤ a ∧ a ≤ 9223372036854775807) :
    Calls Tryz.prog 10 #[.string s, .int .i64 a] w fun e w' => e = .returned (.int .i64 (nextV s.data.toList a : Int)) ∧ Below w.heap.size w w' := by
  have HB := fun (i : Nat) (h : i < s.size) w => Lib.hid (refBegins14_any s (i : Int) w hs (by omega))
  simp only [mk_in] at HB
  obtain ⟨R, hR⟩ : ∃ R, nextV s.data.toList a = R := ⟨_, rfl⟩
  rw [hR]
  obtain ⟨v0, hv0⟩ : ∃ v, max (0 : Int) a = v := ⟨_, rfl⟩
  have h00 : 0 ≤ v0 := by omega
  have h01 : v0 ≤ 9223372036854775807 := by omega
  have HS0 : Hid (nextV s.data.toList v0 = R) := Lib.hid (by
    by_cases h : a < 0
    · rw [show v0 = 0 by omega, ← next_neg _ a (by omega), hR]
    · rw [show v0 = a by omega, hR])
  have hmx : max (0 : Int) a = v0 := hv0
  clear hR hv0
  go_enter Tryz.func10, Tryz.ntmps10
  go_wp2
  go_loopw [5] (fun v wr => ∃ i : Int, v = .int .i64 i ∧ 0 ≤ i ∧ i ≤ 9223372036854775807 ∧ Below w.heap.size w wr ∧ Hid (nextV s.data.toList i = R)) (fun v _ => s.size - (intOf v).toNat)
  case atStart => exact ⟨v0, by first | rfl | (rw [hmx]) | (simp [hmx]) | (simp only [← hmx]; congr 1; omega), h00, h01, Below.refl _ _, HS0⟩
  case round =>
    obtain ⟨v, rfl, hv0, hv1, hb, HI⟩ := hrel
    clear hmx
    by_cases hlt : v < (s.size : Int)
    · obtain ⟨k, rfl⟩ : ∃ k : Nat, v = k := ⟨v.toNat, by omega⟩
      have hk : k < s.size := by omega
      have HC := fun w => HB k hk w
      have hkk : k ≤ 1048576 := by omega
      have HBW := Lib.hid hb
      clear hb
      cases hbb : mkB (s.data.toList.drop k)
      · have HN := Lib.hid ((nextV_go s k hk hbb).trans HI.out)
        rw [hbb] at HC
        clear hbb HB
        go_wp2_with (fail)
        refine (HC _).out.mono ?_
        rintro e w2 ⟨rfl, c2⟩
        go_wp2
        go_roundw
        case rel => exact ⟨((k + 1 : Nat) : Int), by go_num, by omega, by omega, HBW.out.trans (c2.mono HBW.out.size), HN⟩
        case measure => simp [intOf]; omega
      · have HN := Lib.hid ((nextV_stop s k hk hbb).symm.trans HI.out)
        rw [hbb] at HC
        clear hbb HB
        go_wp2_with (fail)
        refine (HC _).out.mono ?_
        rintro e w2 ⟨rfl, c2⟩
        go_wp2
        go_ret
        exact ⟨ret_int (by rw [HN.out]), HBW.out.trans (c2.mono HBW.out.size)⟩
    · have HN : Hid (R = s.size) := Lib.hid (by rw [← HI.out, next_far _ _ (by rw [← Lib.size_eq]; omega), ← Lib.size_eq])
      go_wp2
      go_ret
      exact ⟨ret_int (by rw [HN.out]), hb⟩

theorem next_clamp (s : Txt) (a : Int) : nextV s ((atN s a : Nat) : Int) = nextV s a := by
  have h := atN_le s a
  unfold nextV
  rw [atN_in _ _ h]
set_option maxRecDepth 100000 in
set_option maxHeartbeats 1000000 in
theorem refRead14_any (s : ByteArray) (a : Int) (w : World) (hs : s.size ≤ 1048576) (ha : -9223372036854775808 ≤ a ∧ a ≤ 9223372036854775807) :
    Calls Tryz.prog 6 #[.string s, .int .i64 a] w fun e w' => e = .returned (.tuple #[.string ⟨(txtV s.data.toList a).toArray⟩, .int .i64 (nextV s.data.toList a : Int)]) ∧ Below w.heap.size w w' := by
  obtain ⟨k, hk⟩ : ∃ k, atN s.data.toList a = k := ⟨_, rfl⟩
  have hks : k ≤ s.size := by rw [← hk, Lib.size_eq]; exact atN_le _ _
  have hkk : k ≤ 1048576 := by omega
  have hmx : max (0 : Int) (min a (s.size : Int)) = (k : Int) := by
    rw [← hk, Lib.size_eq]; unfold atN; omega
  have HN := fun w => Lib.hid (refNext14_any s (k : Int) w hs (by omega))
  have hcl := next_clamp s.data.toList a
  rw [hk] at hcl
  rw [hcl] at HN
  have hv : txtV s.data.toList a = ddL false (s.extract k (nextV s.data.toList a)).data.toList := by
    unfold txtV
    rw [hk, Lib.extract_data, show nextV s.data.toList a - k = nextN (s.data.toList.drop k) by unfold nextV; rw [hk]; omega]
  have htop := next_top s.data.toList a
  rw [hk, ← Lib.size_eq] at htop
  rw [hv]
  obtain ⟨N, hN⟩ : ∃ N, nextV s.data.toList a = N := ⟨_, rfl⟩
  rw [hN] at HN htop ⊢
  obtain ⟨ht1, ht2⟩ := htop
  have HD := fun w => Lib.hid (refDecode_any (s.extract k N) false w (by rw [ByteArray.size_extract]; omega))
  obtain ⟨T, hT⟩ : ∃ T : ByteArray, (⟨(ddL false (s.extract k N).data.toList).toArray⟩ : ByteArray) = T := ⟨_, rfl⟩
  rw [hT] at HD ⊢
  have hN2 : N ≤ 1048576 := by omega
  clear hk hcl hv hN hT ha
  go_enter Tryz.func6, Tryz.ntmps6
  go_wp2_with (fail)
  refine (HN _).out.mono ?_
  rintro e w1 ⟨rfl, c1⟩
  go_wp2_with (fail)
  refine (HD _).out.mono ?_
  rintro e w2 ⟨rfl, c2⟩
  go_wp2
  go_ret2
  exact ⟨rfl, c1.trans (c2.mono c1.size)⟩
end Go.Proofs.YtcamkphanakkdaaGreatDoor
