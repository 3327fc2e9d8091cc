/-
  What the document's answer of layer 5 reads a text as: Rows.
-/
import Derived.Test.YtanlneaolnkojaaRowRef
import Derived.OwnWalk
import Derived.Laws.AppendOwn
import Derived.Laws.OwnMore
namespace Go.Proofs.Ytanlneaolnkojaa
open Go.RowKit Go.Lib

def cellsR (l : List Ln) : List Value := l.flatMap fun r => [strV r.1, strV r.2]
theorem cellsR_add (l : List Ln) (k r : Txt) : cellsR l ++ [strV k, strV r] = cellsR (l ++ [(k, r)]) := by simp [cellsR]
theorem cellsR_len (l : List Ln) : (cellsR l).length = l.length * 2 := by
  induction l with
  | nil => rfl
  | cons x l ih => rw [show cellsR (x :: l) = strV x.1 :: strV x.2 :: cellsR l from rfl, List.length_cons, List.length_cons, List.length_cons, ih]; omega
theorem cellsR_at : ∀ (l : List Ln) (i : Nat) (h : i < l.length), (cellsR l)[i * 2]? = some (strV l[i].1) ∧ (cellsR l)[i * 2 + 1]? = some (strV l[i].2)
  | x :: l, 0, _ => ⟨rfl, rfl⟩
  | x :: l, i + 1, h => by
    obtain ⟨a, b⟩ := cellsR_at l i (by simpa using h)
    rw [show cellsR (x :: l) = strV x.1 :: strV x.2 :: cellsR l from rfl, show (i + 1) * 2 = i * 2 + 1 + 1 by omega]
    simp only [List.getElem?_cons_succ, List.getElem_cons_succ]
    exact ⟨a, b⟩
theorem isRows_own {w : World} {base e : Nat} {v : Value} (l : List Ln) (h : w.ownsRow base e 2 v l.length (cellsR l)) : ∃ a cap, v = .slice a l.length cap ∧ IsRows w a l.length cap l := by
  have hc := fun g hg => h.cells (g := g) hg
  rcases h.2 with ⟨rfl, h0⟩ | ⟨g, cap, cur, rfl, hb, hg, hn, hm, hs, htake⟩
  · refine ⟨none, 0, by rw [h0], rfl, by omega, by simp [maxLen], fun i hi => by omega⟩
  · refine ⟨_, cap, rfl, rfl, hn, hm, fun i hi => ⟨_, rfl, ?_, ?_⟩⟩
    · exact hc g rfl _ _ (cellsR_at l i hi).1
    · exact hc g rfl _ _ (cellsR_at l i hi).2

theorem rows_nl (s : ByteArray) (i : Nat) (h : i < s.size) (out : List Ln) (k r : Txt) (b : Bool) (T : List Ln) (hc : s[i] = 10) (hT : rowsF (s.data.toList.drop i) out k r b = T) : rowsF (s.data.toList.drop (i + 1)) (out ++ [(k, r)]) [] [] false = T := by
  rw [drop_at s i h, rowsF, if_pos hc] at hT; exact hT
theorem rows_rest (s : ByteArray) (i : Nat) (h : i < s.size) (out : List Ln) (k r : Txt) (T : List Ln) (hc : s[i] ≠ 10) (hT : rowsF (s.data.toList.drop i) out k r true = T) : rowsF (s.data.toList.drop (i + 1)) out k (r ++ [s[i]]) true = T := by
  rw [drop_at s i h, rowsF, if_neg hc, if_pos rfl] at hT; exact hT
theorem rows_blank (s : ByteArray) (i : Nat) (h : i < s.size) (out : List Ln) (k r : Txt) (T : List Ln) (hc : s[i] = 32) (hT : rowsF (s.data.toList.drop i) out k r false = T) : rowsF (s.data.toList.drop (i + 1)) out k r true = T := by
  rw [drop_at s i h, rowsF, if_neg (by rw [hc]; decide), if_neg (by decide), if_pos hc] at hT; exact hT
theorem rows_key (s : ByteArray) (i : Nat) (h : i < s.size) (out : List Ln) (k r : Txt) (T : List Ln) (hc : s[i] ≠ 10) (hd : s[i] ≠ 32) (hT : rowsF (s.data.toList.drop i) out k r false = T) : rowsF (s.data.toList.drop (i + 1)) out (k ++ [s[i]]) r false = T := by
  rw [drop_at s i h, rowsF, if_neg hc, if_neg (by decide), if_neg hd] at hT; exact hT
theorem str_put (k : Txt) (s : ByteArray) (i : Nat) (h : i < s.size) : (⟨k.toArray⟩ : ByteArray) ++ s.extract i (i + 1) = ⟨(k ++ [s[i]]).toArray⟩ := by
  refine str_ext ?_
  rw [ByteArray.data_append, Array.toList_append, extract_one s i h]

theorem info_row : (Try.prog.info? 31).map (fun i => (i.zero, i.size, i.bytes)) = some (some (.agg #[.string ⟨#[]⟩, .string ⟨#[]⟩]), 2, 32) := by kernel_rfl

theorem new_two (wr : World) (a b : Value) (e : TypeId) : ∀ (j : Nat) (u : Value), [a, b][j]? = some u → (wr.alloc (.cells #[a, b] e)).cell? ((⟨wr.heap.size, 0, none⟩ : Addr).add j) = some u := by
  intro j u hj
  have e1 : (⟨wr.heap.size, 0, none⟩ : Addr).add j = ⟨wr.heap.size, j, none⟩ := by simp [Addr.add]; omega
  rw [e1, cell_of_row _ _ _ _ _ _ (heap_alloc_new wr _)]
  simpa using hj
/-- what holds of the memory at each round: the rows, and the row that is being read -/
def RowsI (w wr : World) (g : Nat) (vo : Value) (out : List Ln) (k r : Txt) : Prop :=
  wr.ownsRow (g + 1) 31 2 vo out.length (cellsR out) ∧ wr.heap[g]? = some (.cells #[strV k, strV r] 31 (0, 0)) ∧ Below g w wr
theorem RowsI.key {w wr : World} {g : Nat} {vo : Value} {out : List Ln} {k r : Txt} (h : RowsI w wr g vo out k r) (k' : Txt) : RowsI w (wr.setCell ⟨g, 0, none⟩ (strV k')) g vo out k' r :=
  ⟨ownsRow_setCell_below h.1 (by simp) _, heap_setCell_same _ _ _ _ _ _ h.2.1, h.2.2.setCell (Nat.le_refl _) _⟩
theorem RowsI.rest {w wr : World} {g : Nat} {vo : Value} {out : List Ln} {k r : Txt} (h : RowsI w wr g vo out k r) (r' : Txt) : RowsI w (wr.setCell ⟨g, 1, none⟩ (strV r')) g vo out k r' :=
  ⟨ownsRow_setCell_below h.1 (by simp) _, heap_setCell_same _ _ _ _ _ _ h.2.1, h.2.2.setCell (Nat.le_refl _) _⟩
theorem RowsI.drew {w wr : World} {g : Nat} {vo : Value} {out : List Ln} {k r : Txt} (h : RowsI w wr g vo out k r) : RowsI w wr.drew g vo out k r := ⟨h.1.drew, h.2.1, h.2.2.drew⟩
theorem RowsI.app {w wr w1 : World} {g : Nat} {vo v1 : Value} {out : List Ln} {k r : Txt} (h : RowsI w wr g vo out k r) (hg : g < wr.heap.size) (o : Obj)
    (hown : w1.ownsRow (g + 1) 31 2 v1 (out.length + 1) (cellsR out ++ [strV k, strV r])) (hgr : (wr.alloc o).grownBy w1 vo.ownBlock) : RowsI w w1 g v1 (out ++ [(k, r)]) k r := by
  have hne : vo.ownBlock ≠ some g := by
    intro e
    have := (h.1.lt g e).1
    omega
  refine ⟨?_, ?_, ?_⟩
  · rw [← cellsR_add, List.length_append, List.length_singleton]; exact hown
  · rw [hgr.block g (by simp; omega) (fun e => hne e.symm)]
    exact (Below.heap_alloc _ _ _ hg).trans h.2.1
  · refine (h.2.2.alloc (Nat.le_of_lt hg) o).grown hgr (by simp; omega) (fun k hk => ?_)
    have := (h.1.lt k hk).1
    omega

set_option maxRecDepth 100000 in
set_option maxHeartbeats 1000000 in
theorem rows_any (t : ByteArray) (w : World) (hs : t.size ≤ 1099511627776) :
    Calls Try.prog 14 #[.string t] w fun e w' => ∃ a cap, e = .returned (.slice a (rowsL t.data.toList).length cap) ∧ IsRows w' a (rowsL t.data.toList).length cap (rowsL t.data.toList) ∧ Below w.heap.size w w' := by
  obtain ⟨i0, hi0, hz0, hz1, hz2⟩ := info_parts info_row
  obtain ⟨T, hT⟩ : ∃ T, rowsF t.data.toList [] [] [] false = T := ⟨_, rfl⟩
  have HT := Lib.hid (show rowsF (t.data.toList.drop 0) [] [] [] false = T from hT)
  have HTT := Lib.hid hT
  clear hT
  obtain ⟨Z, hZ⟩ : ∃ Z, rowsL t.data.toList = Z := ⟨_, rfl⟩
  rw [hZ]
  have HZ := Lib.hid hZ
  clear hZ
  go_enter Try.func14, Try.ntmps14
  go_wp2
  go_loopw [3, 5, 6] (fun v3 v5 v6 wr => ∃ (i : Nat) (out : List Ln) (k r : Txt) (b : Bool), v5 = .bool b ∧ v6 = .int .i64 (i : Int) ∧ RowsI w wr w.heap.size v3 out k r ∧ i ≤ t.size ∧ out.length ≤ i ∧ k.length ≤ i ∧ r.length ≤ i ∧ rowsF (t.data.toList.drop i) out k r b = T) (fun _ _ v _ => t.size - (intOf v).toNat)
  case atStart =>
    exact ⟨0, [], [], [], false, rfl, rfl, ⟨World.ownsRow_nil _ _ _ _, heap_alloc_new w _, below_new (Below.refl _ w) _⟩, Nat.zero_le _, Nat.le_refl _, Nat.le_refl _, Nat.le_refl _, HT.out⟩
  case round =>
    obtain ⟨i, out, k, r, b, rfl, rfl, hI, hi, hol, hkl, hrl, hT⟩ := hrel
    obtain ⟨hown, hx, hb⟩ := hI
    have HX := Lib.hid hT
    clear hT HT
    have hc0 : wr.cell? ⟨w.heap.size, 0, none⟩ = some (strV k) := by rw [cell_of_row _ _ _ _ _ _ hx]; rfl
    have hc1 : wr.cell? ⟨w.heap.size, 1, none⟩ = some (strV r) := by rw [cell_of_row _ _ _ _ _ _ hx]; rfl
    have hf0 : wr.frozen? ⟨w.heap.size, 0, none⟩ = false := frozen_of_row _ _ _ _ _ hx
    have hf1 : wr.frozen? ⟨w.heap.size, 1, none⟩ = false := frozen_of_row _ _ _ _ _ hx
    have hsz := hb.size
    have hlt0 : w.heap.size < wr.heap.size := (Array.getElem?_eq_some_iff.1 hx).1
    have HI : Hid (RowsI w wr w.heap.size u3 out k r) := Lib.hid ⟨hown, hx, hb⟩
    have HOWN := Lib.hid hown
    clear hown hx
    unfold strV at hc0 hc1
    by_cases hlt : i < t.size
    · by_cases h10 : ((t[i].toNat : Nat) : Int) = 10
      · have HH := rows_nl t i hlt out k r b T (u8_eq _ 10 (by decide) h10) HX.out
        have HH := Lib.hid HH
        clear HX
        go_wp2_with (at_builtin; refine wpList_append_own _ rfl _ _ 22 rfl (w.heap.size + 1) 31 i0 _ 2 32 Try.underlying22 hi0 hz0 hz1 hz2 rfl (by decide) _ out.length (cellsR out) rfl (HOWN.out.alloc _) ⟨wr.heap.size, 0, none⟩ 1 1 [strV k, strV r] rfl rfl ?c1 ?c2 ?c3 ?c4 ?c5 ?_)
        case c1 => exact new_two _ _ _ _
        case c2 => intro u hu; simp at hu; rcases hu with rfl | rfl <;> rfl
        case c3 => simp [maxLen]; omega
        case c4 => omega
        case c5 => simp; omega
        intro v1 w1 hown1 hgr1 _
        have hI1 := HI.out.app hlt0 _ hown1 hgr1
        have hx1 := hI1.2.1
        have hc10 : w1.cell? ⟨w.heap.size, 0, none⟩ = some (strV k) := by rw [cell_of_row _ _ _ _ _ _ hx1]; rfl
        have hc11 : w1.cell? ⟨w.heap.size, 1, none⟩ = some (strV r) := by rw [cell_of_row _ _ _ _ _ _ hx1]; rfl
        have hf10 : w1.frozen? ⟨w.heap.size, 0, none⟩ = false := frozen_of_row _ _ _ _ _ hx1
        have hf11 : w1.frozen? ⟨w.heap.size, 1, none⟩ = false := frozen_of_row _ _ _ _ _ hx1
        have HI1 := Lib.hid hI1
        clear hI1 hown1 hgr1 hx1
        go_wp2
        exact ⟨⟨i + 1, out ++ [(k, r)], [], [], false, rfl, by simp, (HI1.out.key []).rest [], by omega, by simp; omega, by simp, by simp, HH.out⟩, by simp [intOf]; omega⟩
      · have h10' : (((t[i].toNat : Nat) : Int) == 10) = false := by simpa using h10
        cases b
        · by_cases h32 : ((t[i].toNat : Nat) : Int) = 32
          · have HH := rows_blank t i hlt out k r T (u8_eq _ 32 (by decide) h32) HX.out
            have HH := Lib.hid HH
            clear HX
            go_wp2
            exact ⟨⟨i + 1, out, k, r, true, rfl, by simp, HI.out, by omega, by omega, by omega, by omega, HH.out⟩, by simp [intOf]; omega⟩
          · have h32' : (((t[i].toNat : Nat) : Int) == 32) = false := by simpa using h32
            have HH := rows_key t i hlt out k r T (u8_ne _ 10 (by decide) h10) (u8_ne _ 32 (by decide) h32) HX.out
            have HH := Lib.hid HH
            have HP := Lib.hid (str_put k t i hlt)
            clear HX
            have s1 : ¬ 9223372036854775807 < (⟨k.toArray⟩ : ByteArray).size + (t.extract i (i + 1)).size := by
              rw [Lib.size_eq, List.toList_toArray, ByteArray.size_extract]; omega
            go_wp2
            go_region
            go_wp2
            rw [HP.out]
            exact ⟨⟨i + 1, out, k ++ [t[i]], r, false, rfl, by simp, (HI.out.key _).drew, by omega, by omega, by simp; omega, by omega, HH.out⟩, by simp [intOf]; omega⟩
        · have HH := rows_rest t i hlt out k r T (u8_ne _ 10 (by decide) h10) HX.out
          have HH := Lib.hid HH
          have HP := Lib.hid (str_put r t i hlt)
          clear HX
          have s1 : ¬ 9223372036854775807 < (⟨r.toArray⟩ : ByteArray).size + (t.extract i (i + 1)).size := by
            rw [Lib.size_eq, List.toList_toArray, ByteArray.size_extract]; omega
          go_wp2
          go_region
          go_wp2
          rw [HP.out]
          exact ⟨⟨i + 1, out, k, r ++ [t[i]], true, rfl, by simp, (HI.out.rest _).drew, by omega, by omega, by omega, by simp; omega, HH.out⟩, by simp [intOf]; omega⟩
    · have hii : i = t.size := by omega
      by_cases h0 : t.size = 0
      · obtain rfl : Z = [] := by
          rw [← HZ.out]; unfold rowsL; rw [if_pos (List.eq_nil_of_length_eq_zero (by rw [← Lib.size_eq]; exact h0))]
        have hol0 : out = [] := List.eq_nil_of_length_eq_zero (by omega)
        subst hol0
        obtain ⟨a, cap, hv, hrows⟩ := isRows_own [] HOWN.out
        subst hv
        have HRO := Lib.hid hrows
        clear hrows HX
        go_wp2
        go_ret
        exact ⟨_, _, rfl, HRO.out, hb⟩
      · obtain rfl : Z = out ++ [(k, r)] := by
          rw [← HZ.out]
          unfold rowsL
          rw [if_neg (fun e => h0 (by rw [Lib.size_eq, e]; rfl)), HTT.out, ← HX.out]
          rw [List.drop_eq_nil_of_le (by rw [← Lib.size_eq]; omega)]; rfl
        clear HX
        go_wp2_with (at_builtin; refine wpList_append_own _ rfl _ _ 22 rfl (w.heap.size + 1) 31 i0 _ 2 32 Try.underlying22 hi0 hz0 hz1 hz2 rfl (by decide) _ out.length (cellsR out) rfl (HOWN.out.alloc _) ⟨wr.heap.size, 0, none⟩ 1 1 [strV k, strV r] rfl rfl ?c1 ?c2 ?c3 ?c4 ?c5 ?_)
        case c1 => exact new_two _ _ _ _
        case c2 => intro u hu; simp at hu; rcases hu with rfl | rfl <;> rfl
        case c3 => simp [maxLen]; omega
        case c4 => omega
        case c5 => simp; omega
        intro v1 w1 hown1 hgr1 _
        have hI1 := HI.out.app hlt0 _ hown1 hgr1
        obtain ⟨a, cap, hv, hrows⟩ := isRows_own _ hI1.1
        subst hv
        have HRO := Lib.hid hrows
        have HB1 := Lib.hid hI1.2.2
        clear hI1 hown1 hgr1 hrows
        go_wp2
        go_ret
        exact ⟨_, _, rfl, HRO.out, HB1.out⟩

end Go.Proofs.Ytanlneaolnkojaa
