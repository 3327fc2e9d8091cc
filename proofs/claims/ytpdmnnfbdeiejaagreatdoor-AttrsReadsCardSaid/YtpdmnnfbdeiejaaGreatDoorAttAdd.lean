/-
  What the document's add of layer 8 does with its own list, and what Same tells of two.
-/
import Derived.Test.YtpdmnnfbdeiejaaGreatDoorAttMath
import Derived.Test.YtpdmnnfbdeiejaaGreatDoorP3
import Derived.Test.YtpdmnnfbdeiejaaGreatDoorP4
import Derived.Test.YtpdmnnfbdeiejaaGreatDoorP1
import Derived.Test.YtpdmnnfbdeiejaaGreatDoorP6
namespace Go.Proofs.YtpdmnnfbdeiejaaGreatDoor
open Go.RowKit Go.Lib

theorem info_attr : (Tryz.prog.info? 29).map (fun i => (i.zero, i.size, i.bytes)) = some (some (.agg #[.string ⟨#[]⟩, .string ⟨#[]⟩]), 2, 32) := by kernel_rfl
/-- an own row stands where the memory only grows -/
theorem own_below {w w' : World} {base e size : Nat} {v : Value} {n : Nat} {xs : List Value} (h : w.ownsRow base e size v n xs) (hb : Below w.heap.size w w') : w'.ownsRow base e size v n xs :=
  h.kept (row := none) ⟨hb.os, hb.tape, hb.output, hb.size, fun k hk _ => hb.block k hk⟩ (Classical.em _)
theorem any_not (l : List Ln) (N : Txt) (h : ∀ j (hj : j < l.length), l[j].1 ≠ N) : l.any (fun r => r.1 == N) = false := by
  rw [List.any_eq_false]
  intro r hr
  obtain ⟨j, hj, rfl⟩ := List.getElem_of_mem hr
  simpa using h j hj
theorem any_is (l : List Ln) (N : Txt) (j : Nat) (hj : j < l.length) (h : l[j].1 = N) : l.any (fun r => r.1 == N) = true := by
  rw [List.any_eq_true]
  exact ⟨l[j], List.getElem_mem hj, by simpa using h⟩

set_option maxRecDepth 100000 in
set_option maxHeartbeats 4000000 in
theorem refAdd_any (base : Nat) (v : Value) (l : List Ln) (name val : ByteArray) (w : World) (hbase : base ≤ w.heap.size) (hown : w.ownsRow base 29 2 v l.length (cellsR l)) (hn : name.size ≤ 1048576) (hv : val.size ≤ 1048576) (hl : l.length ≤ 1048576) :
    Calls Tryz.prog 14 #[v, .string name, .string val] w fun e w' => ∃ v', e = .returned v' ∧ w'.ownsRow base 29 2 v' (addL l name.data.toList val.data.toList).length (cellsR (addL l name.data.toList val.data.toList)) ∧ Below base w w' := by
  obtain ⟨i0, hi0, hz0, hz1, hz2⟩ := info_parts info_attr
  obtain ⟨a, cap, rfl, hrows⟩ := isRows_own l hown
  have HO := Lib.hid hown
  have HR := Lib.hid hrows
  have hA : ∀ o, addL l name.data.toList val.data.toList = o → Hid ((if l.any (fun r => r.1 == tellN name.data.toList) then l else l ++ [(tellN name.data.toList, tellV val.data.toList)]) = o) := fun o h => Lib.hid h
  have HL := fun w => Lib.hid (refLower name w (by omega))
  have HC := fun w => Lib.hid (refClean_any (lowS name) w (by rw [lowS_size]; omega))
  have HD := fun w => Lib.hid (refDecode_any val true w (by omega))
  have hds : (⟨(ddL true val.data.toList).toArray⟩ : ByteArray).size ≤ 1099511627776 := by
    rw [Lib.size_eq, List.toList_toArray]
    have := dd_len true val.data.toList.length val.data.toList (Nat.le_refl _)
    rw [← Lib.size_eq] at this
    omega
  have HE := fun w => Lib.hid (refClean_any ⟨(ddL true val.data.toList).toArray⟩ w hds)
  rw [lowS_list] at HC
  rw [List.toList_toArray] at HE
  obtain ⟨Q, hQ⟩ : ∃ Q, addL l name.data.toList val.data.toList = Q := ⟨_, rfl⟩
  have HA := hA _ hQ
  rw [hQ]
  obtain ⟨N, hN⟩ : ∃ N, tellN name.data.toList = N := ⟨_, rfl⟩
  obtain ⟨V, hV⟩ : ∃ V, tellV val.data.toList = V := ⟨_, rfl⟩
  rw [hN, hV] at HA
  rw [show cleanL (lowL name.data.toList) = N from hN] at HC
  rw [show cleanL (ddL true val.data.toList) = V from hV] at HE
  obtain ⟨D, hD⟩ : ∃ D : ByteArray, ⟨(ddL true val.data.toList).toArray⟩ = D := ⟨_, rfl⟩
  rw [hD] at HD HE
  clear hown hrows hA hQ hN hV hD hds
  go_enter Tryz.func14, Tryz.ntmps14
  go_wp2_with (fail)
  refine (HL _).out.mono ?_
  rintro e w1 ⟨rfl, b1⟩
  go_wp2_with (fail)
  refine (HC _).out.mono ?_
  rintro e w2 ⟨rfl, b2⟩
  have c2 := b1.trans (b2.mono b1.size)
  have hs2 := c2.size
  go_wp2
  go_loopw [8] (fun v wr => ∃ i : Nat, v = .int .i64 (i : Int) ∧ w2 = wr ∧ i ≤ l.length ∧ ∀ j (hj : j < l.length), j < i → l[j].1 ≠ N) (fun v _ => l.length - (intOf v).toNat)
  case atStart => exact ⟨0, rfl, rfl, Nat.zero_le _, fun j _ h => by omega⟩
  case round =>
    obtain ⟨i, rfl, rfl, hi, hno⟩ := hrel
    by_cases hlt : i < l.length
    · obtain ⟨x, rfl, hc1, -⟩ := (HR.out.below c2 (Nat.le_refl _)).2.2.2 i hlt
      by_cases hk : l[i].1 = N
      · have e1 := any_is l N i hlt hk
        have HQ : Hid (l = Q) := Lib.hid (by have := HA.out; rwa [e1, if_pos rfl] at this)
        rw [hk] at hc1
        clear hno hk e1
        unfold strV at hc1
        go_wp2
        go_ret
        exact ⟨_, rfl, by rw [← HQ.out]; exact own_below HO.out c2, c2.mono hbase⟩
      · obtain ⟨K, hK⟩ : ∃ K, l[i].1 = K := ⟨_, rfl⟩
        have HNO := Lib.hid (show ∀ j (hj : j < l.length), j < i + 1 → l[j].1 ≠ N from fun j hj h => by
          rcases Nat.lt_or_ge j i with h2 | h2
          · exact hno j hj h2
          · have : j = i := by omega
            subst this; exact hk)
        have hb : (K == N) = false := by rw [beq_eq_false_iff_ne, ← hK]; exact hk
        rw [hK] at hc1
        clear hno hk hK
        unfold strV at hc1
        go_wp2
        go_roundw
        case rel => exact ⟨i + 1, by go_num, trivial, by omega, HNO.out⟩
        case measure => simp [intOf]; omega
    · have e1 := any_not l N (fun j hj => hno j hj (by omega))
      have HQ : Hid (l ++ [(N, V)] = Q) := Lib.hid (by have := HA.out; rwa [e1, if_neg Bool.false_ne_true] at this)
      clear hno e1
      go_wp2_with (fail)
      refine (HD _).out.mono ?_
      rintro e w3 ⟨rfl, b3⟩
      have c3 := c2.trans (b3.mono c2.size)
      go_wp2_with (fail)
      refine (HE _).out.mono ?_
      rintro e w4 ⟨rfl, b4⟩
      have c4 := c3.trans (b4.mono c3.size)
      have HOW := Lib.hid (own_below HO.out c4)
      have hs4 := c4.size
      go_wp2_with (at_builtin; refine wpList_append_own _ rfl _ _ 23 rfl base 29 i0 _ 2 32 Tryz.underlying23 hi0 hz0 hz1 hz2 rfl (by decide) _ l.length (cellsR l) rfl (HOW.out.alloc _) ⟨w4.heap.size, 0, none⟩ 1 1 [strV N, strV V] rfl rfl ?c1 ?c2 ?c3 ?c4 ?c5 ?_)
      case c1 => exact new_two _ _ _ _
      case c2 => intro u hu; simp at hu; rcases hu with rfl | rfl <;> rfl
      case c3 => simp [maxLen]; omega
      case c4 => omega
      case c5 => simp; omega
      intro v1 w5 hown1 hgr1 _
      have B5 : Below base w w5 := ((c4.mono hbase).alloc (by omega) _).grown hgr1 (by simp; omega) (fun k hk => (HO.out.lt k hk).1)
      rw [cellsR_add, HQ.out, show l.length + 1 = Q.length by rw [← HQ.out]; simp] at hown1
      clear hgr1
      have HB := Lib.hid B5
      have HW := Lib.hid hown1
      clear B5 hown1
      go_wp2
      go_ret
      exact ⟨_, rfl, HW.out, HB.out⟩
end Go.Proofs.YtpdmnnfbdeiejaaGreatDoor
