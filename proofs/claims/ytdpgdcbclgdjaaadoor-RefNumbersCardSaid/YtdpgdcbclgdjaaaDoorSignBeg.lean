/-
  What package sign's Begins answers, for every input.
-/
import Derived.Test.YtdpgdcbclgdjaaaDoorSignCode
namespace Go.Proofs.YtdpgdcbclgdjaaaDoor
open Go.RowKit Go.Lib

set_option maxRecDepth 100000 in
set_option maxHeartbeats 1000000 in
theorem begins (s : ByteArray) (a : Int) (low : ByteArray) (w : World) (hs : s.size ≤ 1099511627776) (hl : low.size ≤ 1099511627776) (ha : -9223372036854775808 ≤ a) (hb : a ≤ 9223372036854775807) :
    Calls Tryd.prog 18 #[.string s, .int .i64 a, .string low] w fun e w' => e = .returned (.bool (begS s a low)) ∧ ∃ n, w' = w.drewN n := by
  by_cases h0 : a < 0
  · have HT := Lib.hid (show begS s a low = false by unfold begS; rw [decide_eq_false (by omega)]; rfl)
    rw [HT.out]
    go_enter Tryd.func18, Tryd.ntmps18
    go_wp2
    go_ret
    exact ⟨rfl, 0, rfl⟩
  obtain ⟨k, rfl⟩ : ∃ k : Nat, a = k := ⟨a.toNat, by omega⟩
  by_cases h1 : (s.size : Int) - (k : Int) < (low.size : Int)
  · have HT := Lib.hid (show begS s k low = false by
      unfold begS
      by_cases h2 : k ≤ s.size
      · rw [show ((k : Nat) : Int).toNat = k by omega, pre_long s low k (by omega) h2, Bool.and_false]
      · rw [decide_eq_false (by omega)]; rfl)
    rw [HT.out]
    go_enter Tryd.func18, Tryd.ntmps18
    go_wp2
    go_ret
    exact ⟨rfl, 0, rfl⟩
  · obtain ⟨T, hT⟩ : ∃ T, begS s k low = T := ⟨_, rfl⟩
    have HT : Hid ((low.data.toList.drop 0).isPrefixOf (lowL (s.data.toList.drop (k + 0))) = T) := Lib.hid (by
      rw [← hT]; unfold begS
      rw [show ((k : Nat) : Int).toNat = k by omega, decide_eq_true (by omega)]; rfl)
    rw [hT]
    clear hT
    have hkl : k + low.size ≤ s.size := by omega
    go_enter Tryd.func18, Tryd.ntmps18
    go_wp2
    go_loopw [21] (fun v wr => ∃ (j n : Nat), v = .int .i64 (j : Int) ∧ wr = w.drewN n ∧ j ≤ low.size ∧ (low.data.toList.drop j).isPrefixOf (lowL (s.data.toList.drop (k + j))) = T) (fun v _ => low.size - (intOf v).toNat)
    case atStart => exact ⟨0, 0, rfl, rfl, Nat.zero_le _, HT.out⟩
    case round =>
      obtain ⟨j, n, rfl, rfl, hj, hT⟩ := hrel
      have HJ := Lib.hid hT
      clear hT HT
      by_cases hlt : j < low.size
      · have hk : k + j < s.size := by omega
        have i1 : (k : Int) + (j : Int) < (s.size : Int) := by omega
        have i2 : (j : Int) < (low.size : Int) := by omega
        have i3 : (0 : Int) ≤ (k : Int) + (j : Int) := by omega
        have i4 : IntKind.i64.wrap ((k : Int) + (j : Int)) = (k : Int) + (j : Int) := by rw [IntKind.wrap_i64]; omega
        have i5 : ((k : Int) + (j : Int)).toNat = k + j := by omega
        have hb1 := (s[k + j]'hk).toNat_lt
        by_cases he : lowI (s[k + j].toNat : Int) = (low[j].toNat : Int)
        · have hb : (lowI (s[k + j].toNat : Int) != (low[j].toNat : Int)) = false := by simpa using he
          have HE := Lib.hid he
          clear he
          go_wp2
          go_quiet ((go_at_call 37; refine (small _ _ (by omega) (by omega)).mono ?_; rintro e w'' ⟨rfl, rfl⟩; exact ⟨rfl, _, rfl⟩))
          go_wp2
          go_roundw
          case rel => exact ⟨j + 1, _, rfl, rfl, by omega, pre_yes s low k j T hlt hk HE.out HJ.out⟩
          case measure => simp [intOf]; omega
        · have hb : (lowI (s[k + j].toNat : Int) != (low[j].toNat : Int)) = true := by simpa using he
          go_wp2
          go_quiet ((go_at_call 37; refine (small _ _ (by omega) (by omega)).mono ?_; rintro e w'' ⟨rfl, rfl⟩; exact ⟨rfl, _, rfl⟩))
          go_wp2
          go_ret
          exact ⟨ret_bool (pre_no s low k j T hlt hk he HJ.out), _, World.drewN_drewN ..⟩
      · go_wp2
        go_ret
        exact ⟨ret_bool (by rw [← HJ.out, pre_end s low k j (by omega)]), _, rfl⟩

end Go.Proofs.YtdpgdcbclgdjaaaDoor
