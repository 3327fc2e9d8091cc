/-
  What the document's functions of layer 6 answer, for every input: where a key's line begins.
-/
import Derived.Test.YtdpgdcbclgdjaaaDoorNamFind
import Derived.Test.YtdpgdcbclgdjaaaDoorSignRef
import Derived.BigQuiet
namespace Go.Proofs.YtdpgdcbclgdjaaaDoor
open Go.RowKit Go.Lib

/-- what the walk through all places asks of the table: by numbers of bytes -/
structure AtI (T W : ByteArray) (R : Int) : Prop where
  yes : ∀ i : Nat, i + W.size ≤ T.size → (i = 0 ∨ ∃ h : i - 1 < T.size, ((T[i - 1].toNat : Nat) : Int) = 10) → (T.extract i (i + W.size)).toList = W.toList → R = i
  fir : ∀ (i : Nat) (h : i < T.size) (h0 : 0 < W.size), ¬ ((T[i].toNat : Nat) : Int) = ((W[0].toNat : Nat) : Int) → R ≠ i
  pre : ∀ (i : Nat) (h : i < T.size), ¬ ((T[i].toNat : Nat) : Int) = 10 → R ≠ (i : Int) + 1
  sl : ∀ i : Nat, ¬ (T.extract i (i + W.size)).toList = W.toList → R ≠ i
  fin : R = -1 ∨ 0 ≤ R ∧ R + W.size ≤ T.size

theorem some_at (T : ByteArray) (L : Txt) (hT : T.data.toList = L) (i : Nat) (h : i < T.size) : L[i]? = some T[i] := by
  rw [← hT, List.getElem?_eq_getElem (by rw [← Lib.size_eq]; exact h), at_list T i h]
theorem atI {T : ByteArray} {rs : List Ln} (hv : Valid rs) (hT : T.data.toList = flatL rs) (name : ByteArray) (hn : 32 ∉ name.data.toList) : AtI T (name ++ ⟨#[32]⟩) (atL rs name.data.toList) := by
  have hW : (name ++ (⟨#[32]⟩ : ByteArray)).data.toList = name.data.toList ++ [32] := by rw [ByteArray.data_append, Array.toList_append]
  have hWs : (name ++ (⟨#[32]⟩ : ByteArray)).size = name.data.toList.length + 1 := by rw [Lib.size_eq, hW]; simp
  have hTs : T.size = (flatL rs).length := by rw [Lib.size_eq, hT]
  have hsl : ∀ i, (T.extract i (i + (name.data.toList.length + 1))).toList = (name ++ (⟨#[32]⟩ : ByteArray)).toList ↔ ((flatL rs).drop i).take (name.data.toList.length + 1) = name.data.toList ++ [32] := by
    intro i
    rw [ByteArray.toList_eq, ByteArray.toList_eq, hW, extract_data, hT, show i + (name.data.toList.length + 1) - i = name.data.toList.length + 1 by omega]
  generalize name ++ (⟨#[32]⟩ : ByteArray) = W at *
  refine ⟨?_, ?_, ?_, ?_, ?_⟩
  · intro i hi hb hs
    rw [hWs] at hi hs
    refine at_yes hv _ hn i (by omega) ?_ ((hsl i).1 hs)
    rcases hb with hb | ⟨hb, h10⟩
    · exact .inl hb
    · right
      rw [some_at T _ hT _ hb, u8_eq T[i - 1] 10 (by decide) h10]
      rfl
  · intro i h h0 hne e
    have h1 := (at_no hv _ i e).2.1
    have h2 : (((flatL rs).drop i).take (name.data.toList.length + 1))[0]? = (flatL rs)[i]? := by
      rw [List.getElem?_take, if_pos (by omega), List.getElem?_drop]; rfl
    rw [h1, ← hW, some_at T _ hT i h, some_at W _ rfl 0 h0] at h2
    simp only [Option.some.injEq] at h2
    exact hne (by rw [h2])
  · intro i h hne e
    have h1 := (at_no hv name.data.toList (i + 1) (by rw [e]; push_cast; rfl)).1
    rcases h1 with h1 | h1
    · omega
    · rw [Nat.add_sub_cancel, some_at T _ hT i h] at h1
      simp only [Option.some.injEq] at h1
      exact hne (by rw [h1]; rfl)
  · intro i hne e
    rw [hWs] at hne
    exact hne ((hsl i).2 (at_no hv _ i e).2.1)
  · rcases atL_cases (rs := rs) name.data.toList with ⟨h1, -⟩ | ⟨k, hk, h1, h2⟩
    · exact .inl h1
    · have := (at_no hv _ _ h2).2.2
      omega

set_option maxHeartbeats 4000000 in
set_option maxRecDepth 1000000 in
theorem refAt_any (name : ByteArray) (w : World) (h32 : 32 ∉ name.data.toList) (hs : name.size ≤ 1099511627776) :
    Calls Tryd.prog 51 #[.string name] w fun e w' => e = .returned (.int .i64 (atL nmRows name.data.toList)) ∧ ∃ n, w' = w.drewN n := by
  refine calls_of_wp Tryd.func51 rfl ?_
  generalize hT : (ByteArray.mk (List.toArray (List.append _ _))) = T
  have HT : IsNm T := ⟨by rw [← hT]; kernel_rfl⟩
  clear hT
  have hI := atI nm_valid HT.list name h32
  have hTs := HT.size
  have HZ := fun h => Lib.hid (look_short name.data.toList h).1
  obtain ⟨R, hR⟩ : ∃ R, atL nmRows name.data.toList = R := ⟨_, rfl⟩
  rw [hR] at hI HZ ⊢
  have hne : (name ++ (⟨#[32]⟩ : ByteArray)).size = name.size + 1 := by rw [ByteArray.size_append]; rfl
  clear HT hR h32
  by_cases h0 : name.size = 0
  · obtain rfl := (HZ (.inl (by rw [← List.length_eq_zero_iff, ← Lib.size_eq]; exact h0))).out
    clear HZ hI
    simp only [Tryd.ntmps51, List.size_toArray, List.length_cons, List.length_nil, Nat.reduceAdd, Nat.reduceSub, Array.replicate_succ, Array.replicate_zero, List.push_toArray, List.append_toArray, List.nil_append, List.cons_append]
    go_wp2
    go_ret
    exact ⟨rfl, 0, rfl⟩
  by_cases h1 : 32 < name.size
  · obtain rfl := (HZ (.inr (by rw [← Lib.size_eq]; exact h1))).out
    clear HZ hI
    simp only [Tryd.ntmps51, List.size_toArray, List.length_cons, List.length_nil, Nat.reduceAdd, Nat.reduceSub, Array.replicate_succ, Array.replicate_zero, List.push_toArray, List.append_toArray, List.nil_append, List.cons_append]
    go_wp2
    go_ret
    exact ⟨rfl, 0, rfl⟩
  have HI := Lib.hid hI
  have b0 : ((name.size : Int) == 0) = false := by rw [beq_eq_false_iff_ne]; omega
  have b1 : decide ((32 : Int) < (name.size : Int)) = false := decide_eq_false (by omega)
  clear HZ hI
  simp only [Tryd.ntmps51, List.size_toArray, List.length_cons, List.length_nil, Nat.reduceAdd, Nat.reduceSub, Array.replicate_succ, Array.replicate_zero, List.push_toArray, List.append_toArray, List.nil_append, List.cons_append]
  go_wp2
  generalize name ++ (⟨#[32]⟩ : ByteArray) = W at *
  clear b0 b1
  have hW0 : 0 < W.size := by omega
  have hW1 : W.size ≤ 33 := by omega
  clear hne hs h0 h1
  go_loopw [5] (fun v wr => ∃ (i n : Nat), v = .int .i64 (i : Int) ∧ wr = w.drewN n ∧ i ≤ T.size ∧ (R = -1 ∨ (i : Int) ≤ R)) (fun v _ => T.size - (intOf v).toNat)
  case atStart => exact ⟨0, 0, rfl, rfl, Nat.zero_le _, by have := HI.out.fin; omega⟩
  case round =>
    obtain ⟨i, n, rfl, rfl, hi, hR⟩ := hrel
    by_cases hend : i + W.size ≤ T.size
    · have hiT : i < T.size := by omega
      by_cases hc0 : ((T[i].toNat : Nat) : Int) = ((W[0].toNat : Nat) : Int)
      · have b0 : (((T[i].toNat : Nat) : Int) != ((W[0].toNat : Nat) : Int)) = false := by simpa using hc0
        clear hc0
        by_cases hz : i = 0
        · subst hz
          by_cases hsl : (T.extract 0 (0 + W.size)).toList = W.toList
          · have b1 : ((T.extract 0 (0 + W.size)).toList == W.toList) = true := by simpa using hsl
            have HR := Lib.hid (HI.out.yes 0 hend (.inl rfl) hsl)
            rw [Nat.zero_add] at b1
            clear hsl HI
            go_wp2
            go_quiet (fail)
            go_wp2
            go_ret
            exact ⟨ret_int HR.out.symm, _, rfl⟩
          · have b1 : ((T.extract 0 (0 + W.size)).toList == W.toList) = false := by simpa using hsl
            have HR := Lib.hid (HI.out.sl 0 hsl)
            rw [Nat.zero_add] at b1
            clear hsl
            go_wp2
            go_quiet (fail)
            go_wp2
            go_roundw
            case rel => exact ⟨1, _, rfl, rfl, by omega, by have := HR.out; omega⟩
            case measure => simp [intOf]; omega
        · obtain ⟨j, hj⟩ : ∃ j : Nat, (i : Int) - 1 = (j : Int) := ⟨i - 1, by omega⟩
          have hjT : j < T.size := by omega
          have hi1 : (0 : Int) < (i : Int) := by omega
          have hij : i - 1 = j := by omega
          by_cases hp : ((T[j].toNat : Nat) : Int) = 10
          · have b2 : (((T[j].toNat : Nat) : Int) != 10) = false := by simpa using hp
            by_cases hsl : (T.extract i (i + W.size)).toList = W.toList
            · have b1 : ((T.extract i (i + W.size)).toList == W.toList) = true := by simpa using hsl
              have HR := Lib.hid (HI.out.yes i hend (.inr (by subst hij; exact ⟨hjT, hp⟩)) hsl)
              clear hsl HI hp hz hij
              go_wp2
              go_quiet (fail)
              go_wp2
              go_ret
              exact ⟨ret_int HR.out.symm, _, rfl⟩
            · have b1 : ((T.extract i (i + W.size)).toList == W.toList) = false := by simpa using hsl
              have HR := Lib.hid (HI.out.sl i hsl)
              clear hsl hp hz hij
              go_wp2
              go_quiet (fail)
              go_wp2
              go_roundw
              case rel => exact ⟨i + 1, _, rfl, rfl, by omega, by have := HR.out; omega⟩
              case measure => simp [intOf]; omega
          · have b2 : (((T[j].toNat : Nat) : Int) != 10) = true := by simpa using hp
            have HR := Lib.hid (HI.out.pre j hjT hp)
            clear hp hz hij
            go_wp2
            go_quiet (fail)
            go_wp2
            go_roundw
            case rel => exact ⟨i + 1, _, rfl, rfl, by omega, by have := HR.out; omega⟩
            case measure => simp [intOf]; omega
      · have b0 : (((T[i].toNat : Nat) : Int) != ((W[0].toNat : Nat) : Int)) = true := by simpa using hc0
        have HR := Lib.hid (HI.out.fir i hiT hW0 hc0)
        clear hc0
        go_wp2
        go_quiet (fail)
        go_wp2
        go_roundw
        case rel => exact ⟨i + 1, _, rfl, rfl, by omega, by have := HR.out; omega⟩
        case measure => simp [intOf]; omega
    · go_wp2
      go_ret
      exact ⟨ret_int (by have := HI.out.fin; omega), _, rfl⟩
end Go.Proofs.YtdpgdcbclgdjaaaDoor
