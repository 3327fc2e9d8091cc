/-
  What package script's small functions answer: where a name is whole, how long a tag is, what is behind a place.
-/
import Derived.Test.YthmfjnjjkcaalaaScrMath
import Derived.Test.YthmfjnjjkcaalaaScrRef
import Derived.Test.YthmfjnjjkcaalaaRawEnds
import Derived.Test.YthmfjnjjkcaalaaRec
namespace Go.Proofs.Ythmfjnjjkcaalaa
open Go.RowKit Go.Lib

set_option maxRecDepth 100000 in
set_option maxHeartbeats 1000000 in
theorem closes_any (c : UInt8) (w : World) :
    Calls Try.prog 44 #[.int .u8 ((c.toNat : Nat) : Int)] w fun e w' => e = .returned (.bool (tailB c)) ∧ w' = w := by
  rw [tailB_int]
  have hlt := c.toNat_lt
  have HS := fun w => Lib.hid (space ((c.toNat : Nat) : Int) w (by omega) (by omega))
  obtain ⟨S, hS⟩ : ∃ S, spaceI ((c.toNat : Nat) : Int) = S := ⟨_, rfl⟩
  obtain ⟨T, hT⟩ : ∃ S, (((c.toNat : Nat) : Int) == 47) = S := ⟨_, rfl⟩
  obtain ⟨U, hU⟩ : ∃ S, (((c.toNat : Nat) : Int) == 62) = S := ⟨_, rfl⟩
  rw [hS] at HS
  rw [hS, hT, hU]
  clear hS hlt
  cases T
  · cases U
    · go_enter Try.func44, Try.ntmps44
      go_wp2_with (go_at_call 36; refine (HS _).out.mono ?_; rintro e w' ⟨rfl, rfl⟩)
      go_ret
      exact ⟨ret_bool (by simp), rfl⟩
    · go_enter Try.func44, Try.ntmps44
      go_wp2_with (go_at_call 36; refine (HS _).out.mono ?_; rintro e w' ⟨rfl, rfl⟩)
      go_ret
      exact ⟨ret_bool (by simp), rfl⟩
  · go_enter Try.func44, Try.ntmps44
    go_wp2_with (go_at_call 36; refine (HS _).out.mono ?_; rintro e w' ⟨rfl, rfl⟩)
    go_ret
    exact ⟨ret_bool (by simp), rfl⟩

/-- how many bytes a tag has, with the one behind its name -/
def tagN (o l : Txt) : Nat := if wordR o l = true then o.length + 7 else 0
set_option maxRecDepth 100000 in
set_option maxHeartbeats 2000000 in
theorem tagLen_any (s : ByteArray) (k : Nat) (tag : ByteArray) (o : Txt) (w : World) (hs : s.size ≤ 1048576) (hk : k < s.size) (ht : tag.data.toList = o ++ scL) (ho : o.length ≤ 2) :
    Calls Try.prog 40 #[.string s, .int .i64 (k : Int), .string tag] w fun e w' => e = .returned (.int .i64 (tagN o (s.data.toList.drop k) : Int)) ∧ Below w.heap.size w w' := by
  have hts : tag.size = o.length + 6 := by rw [Lib.size_eq, ht, List.length_append]; rfl
  have HB := fun w => Lib.hid (begins s (k : Int) tag w (by omega) (by omega) (by omega) (by omega))
  have hb := begScr_at s k tag (by omega)
  rw [ht] at hb
  have hv : wordR o (s.data.toList.drop k) = (begS s (k : Int) tag && (s.data.toList.drop (k + tag.size)).head?.any tailB) := by
    rw [hb]
    unfold wordR
    rw [List.drop_drop, hts]
  have hr : begS s (k : Int) tag = true → k + tag.size ≤ s.size := beg_room s tag k
  have hn : tagN o (s.data.toList.drop k) = if (begS s (k : Int) tag && (s.data.toList.drop (k + tag.size)).head?.any tailB) = true then tag.size + 1 else 0 := by
    unfold tagN
    rw [hv, hts]
  rw [hn]
  obtain ⟨B, hB⟩ : ∃ B, begS s (k : Int) tag = B := ⟨_, rfl⟩
  rw [hB] at HB hr ⊢
  obtain ⟨j, hj⟩ : ∃ j, k + tag.size = j := ⟨_, rfl⟩
  have hjj : (k : Int) + (tag.size : Int) = (j : Int) := by omega
  have hk20 : k ≤ 1048576 := by omega
  have hj20 : j ≤ 1048584 := by omega
  have ht20 : tag.size ≤ 8 := by omega
  rw [hj] at hr ⊢
  obtain ⟨E, hE⟩ : ∃ E, (s.data.toList.drop j).head?.any tailB = E := ⟨_, rfl⟩
  simp only [hE]
  clear hB hb hv hn hj hts ht ho
  cases B
  · clear hr hE
    simp only [Bool.false_and, Bool.false_eq_true, if_false]
    go_enter Try.func40, Try.ntmps40
    go_wp2_with (fail)
    refine (HB _).out.mono ?_
    rintro e w1 ⟨rfl, m1, rfl⟩
    go_wp2
    go_ret
    exact ⟨rfl, dr_below _ _ _⟩
  · have hr := hr rfl
    simp only [Bool.true_and]
    by_cases hlt : j < s.size
    · rw [drop_at s j hlt] at hE
      have hE : tailB s[j] = E := by simpa using hE
      have HC := fun w => Lib.hid (closes_any s[j] w)
      rw [hE] at HC
      clear hE hr
      cases E
      · simp only [Bool.false_eq_true, if_false]
        go_enter Try.func40, Try.ntmps40
        go_wp2_with (fail)
        refine (HB _).out.mono ?_
        rintro e w1 ⟨rfl, m1, rfl⟩
        go_wp2_with (go_at_call 44; refine (HC _).out.mono ?_; rintro e w' ⟨rfl, rfl⟩)
        go_ret
        exact ⟨rfl, dr_below _ _ _⟩
      · simp only [if_true]
        go_enter Try.func40, Try.ntmps40
        go_wp2_with (fail)
        refine (HB _).out.mono ?_
        rintro e w1 ⟨rfl, m1, rfl⟩
        go_wp2_with (go_at_call 44; refine (HC _).out.mono ?_; rintro e w' ⟨rfl, rfl⟩)
        go_ret
        exact ⟨ret_int (by omega), dr_below _ _ _⟩
    · have hje : j = s.size := by omega
      rw [List.drop_eq_nil_of_le (by rw [← Lib.size_eq]; omega)] at hE
      obtain rfl : E = false := hE.symm
      simp only [Bool.false_eq_true, if_false]
      have bj : ((j : Int) == (s.size : Int)) = true := by rw [beq_iff_eq]; omega
      have HJ := Lib.hid hje
      clear hje hlt hr hE
      go_enter Try.func40, Try.ntmps40
      go_wp2_with (fail)
      refine (HB _).out.mono ?_
      rintro e w1 ⟨rfl, m1, rfl⟩
      go_wp2
      go_ret
      exact ⟨rfl, dr_below _ _ _⟩

/-- a place: three numbers in a struct -/
def plC (i st k : Int) : Array Value := #[.int .i64 i, .int .i64 st, .int .i64 k]
theorem sizePl : (Try.prog.info? 34).map (·.size) = some 3 := by kernel_rfl
theorem cells_three {w : World} {g : Nat} {a b c : Value} {T : TypeId} (h : w.heap[g]? = some (.cells #[a, b, c] T (0, 0))) : w.cell? ⟨g, 0, none⟩ = some a ∧ w.cell? ⟨g, 1, none⟩ = some b ∧ w.cell? ⟨g, 2, none⟩ = some c ∧ w.frozen? ⟨g, 0, none⟩ = false := by
  simp [World.cell?, World.frozen?, h]
section
variable {P : Program} {ops : Array Oper} {rest : List Oper} {o : Oper} {a : Act} {w : World} {Q : Exit → Act → World → Prop}
theorem wpList_store_pl (T : TypeId) (hg : o.guard = none) (x y : Operand) (ho : o.op = .store T x y) (g : Nat) (i st k : Int)
    (hx : a.eval x = .pointer (some ⟨g, 0, none⟩)) (hy : a.eval y = .agg (plC i st k)) (i' st' k' : Int) (hb : w.heap[g]? = some (.cells (plC i' st' k') T (0, 0))) (hs : (P.info? T).map (·.size) = some 3)
    (hK : ∀ w', w'.heap[g]? = some (.cells (plC i st k) T (0, 0)) → w.grownBy w' (some g) → wpList P ops Q rest (a.put o.dst undef) w') :
    wpList P ops Q (o :: rest) a w :=
  wpList_store_rec hg T x y ho g (plC i st k) T hx hy (plC i' st' k') hb hs rfl (by simp [plC, Value.oneCell']) hK
end
theorem ret_pl {a b c a' b' c' : Int} (h1 : a = a') (h2 : b = b') (h3 : c = c') : Ending.returned (.agg (plC a b c)) = .returned (.agg #[.int .i64 a', .int .i64 b', .int .i64 c']) := by rw [h1, h2, h3]; rfl

set_option maxRecDepth 100000 in
set_option maxHeartbeats 2000000 in
theorem past_45 (s : ByteArray) (i st k : Nat) (w : World) (hs : s.size ≤ 1048576) (hi : i < s.size) (hk : k ≤ 1048580) (b45 : (((s[i].toNat : Nat) : Int) == 45) = true) :
    Calls Try.prog 30 #[.agg #[.int .i64 (i : Int), .int .i64 (st : Int), .int .i64 (k : Int)], .string s] w fun e w' => e = .returned (.agg #[.int .i64 ((i + 1 : Nat) : Int), .int .i64 (st : Int), .int .i64 ((k + 1 : Nat) : Int)]) ∧ Below w.heap.size w w' := by
  go_enter Try.func30, Try.ntmps30
  go_wp2
  refine bodyPost_ret (results_cell_row rfl _ _ (w.heap.size + 1) 34 (plC ((i : Int) + 1) ((st : Int)) ((k : Int) + 1)) (0, 0) _ rfl (heap_alloc2_new w _ _) Try.underlying34 rfl sizePl) rfl ?_
  exact ⟨ret_pl (by omega) (by omega) (by omega), ((Below.refl _ w).alloc (Nat.le_refl _) _).alloc (by simp) _⟩

set_option maxRecDepth 100000 in
set_option maxHeartbeats 2000000 in
theorem past_62 (s : ByteArray) (i st k : Nat) (w : World) (hs : s.size ≤ 1048576) (hi : i < s.size) (b45 : (((s[i].toNat : Nat) : Int) == 45) = false) (b62 : (((s[i].toNat : Nat) : Int) == 62) = true) (bk : decide ((2 : Int) ≤ (k : Int)) = true) :
    Calls Try.prog 30 #[.agg #[.int .i64 (i : Int), .int .i64 (st : Int), .int .i64 (k : Int)], .string s] w fun e w' => e = .returned (.agg #[.int .i64 ((i + 1 : Nat) : Int), .int .i64 ((0 : Nat) : Int), .int .i64 ((0 : Nat) : Int)]) ∧ Below w.heap.size w w' := by
  go_enter Try.func30, Try.ntmps30
  go_wp2
  refine bodyPost_ret (results_cell_row rfl _ _ (w.heap.size + 1) 34 (plC ((i : Int) + 1) (0) (0)) (0, 0) _ rfl (heap_alloc2_new w _ _) Try.underlying34 rfl sizePl) rfl ?_
  exact ⟨ret_pl (by omega) (by omega) (by omega), ((Below.refl _ w).alloc (Nat.le_refl _) _).alloc (by simp) _⟩

set_option maxRecDepth 100000 in
set_option maxHeartbeats 2000000 in
theorem past_w1 (s : ByteArray) (i k : Nat) (w : World) (hs : s.size ≤ 1048576) (hi : i < s.size) (b45 : (((s[i].toNat : Nat) : Int) == 45) = false) (hb : (((s[i].toNat : Nat) : Int) == 62) = false ∨ (((s[i].toNat : Nat) : Int) == 62) = true ∧ decide ((2 : Int) ≤ (k : Int)) = false) :
    Calls Try.prog 30 #[.agg #[.int .i64 (i : Int), .int .i64 ((1 : Nat) : Int), .int .i64 (k : Int)], .string s] w fun e w' => e = .returned (.agg #[.int .i64 ((i + (if 0 < tagN [60] (s.data.toList.drop i) then tagN [60] (s.data.toList.drop i) else 1) : Nat) : Int), .int .i64 ((if 0 < tagN [60] (s.data.toList.drop i) then 2 else 1 : Nat) : Int), .int .i64 ((0 : Nat) : Int)]) ∧ Below w.heap.size w w' := by
  have hb2 : (((s[i].toNat : Nat) : Int) == 62) = false ∨ (((s[i].toNat : Nat) : Int) == 62) = true ∧ decide ((2 : Int) ≤ (k : Int)) = false := hb
  have HT := fun w => Lib.hid (tagLen_any s i ⟨#[60, 115, 99, 114, 105, 112, 116]⟩ [60] w hs hi rfl (by decide))
  obtain ⟨N, hN⟩ : ∃ N, tagN [60] (s.data.toList.drop i) = N := ⟨_, rfl⟩
  have hN9 : N ≤ 9 := by
    rw [← hN]; unfold tagN; split <;> simp
  rw [hN] at HT ⊢
  have h0 : N = 0 ∨ 0 < N := by omega
  clear hN hb
  rcases h0 with rfl | h0
  · simp only [Nat.lt_irrefl, if_false]
    rcases hb2 with b62 | ⟨b62, bk⟩
    all_goals
      go_enter Try.func30, Try.ntmps30
      go_wp2_with (fail)
      refine (HT _).out.mono ?_
      rintro e w1 ⟨rfl, b1⟩
      have p1 := (b1.block w.heap.size (by simp; omega)).trans (heap_alloc2_old w _ _)
      have z1 := (b1.block (w.heap.size + 1) (by simp)).trans (heap_alloc2_new w _ _)
      have B1 := Lib.hid ((((Below.refl _ w).alloc (Nat.le_refl _) (.cells #[.int .i64 (i : Int), .int .i64 (1 : Nat), .int .i64 (k : Int)] 34)).alloc (by simp) (.cells #[.int .i64 0, .int .i64 0, .int .i64 0] 34)).trans (b1.mono (by simp; omega)))
      obtain ⟨x0, x1, x2, x3⟩ := cells_three p1
      clear b1
      go_wp2_with (first | (refine wpList_store_pl 34 rfl _ _ rfl (w.heap.size + 1) ((i : Int) + 1) 1 0 rfl rfl 0 0 0 z1 sizePl ?_; intro wy ry gy))
      refine bodyPost_ret (results_cell_row rfl _ _ (w.heap.size + 1) 34 (plC ((i : Int) + 1) 1 0) (0, 0) _ rfl ry Try.underlying34 rfl sizePl) rfl ?_
      exact ⟨ret_pl (by omega) (by omega) (by omega), B1.out.grown gy B1.out.size (fun j hj => by cases hj; omega)⟩
  · simp only [if_pos h0]
    rcases hb2 with b62 | ⟨b62, bk⟩
    all_goals
      go_enter Try.func30, Try.ntmps30
      go_wp2_with (fail)
      refine (HT _).out.mono ?_
      rintro e w1 ⟨rfl, b1⟩
      have p1 := (b1.block w.heap.size (by simp; omega)).trans (heap_alloc2_old w _ _)
      have z1 := (b1.block (w.heap.size + 1) (by simp)).trans (heap_alloc2_new w _ _)
      have B1 := Lib.hid ((((Below.refl _ w).alloc (Nat.le_refl _) (.cells #[.int .i64 (i : Int), .int .i64 (1 : Nat), .int .i64 (k : Int)] 34)).alloc (by simp) (.cells #[.int .i64 0, .int .i64 0, .int .i64 0] 34)).trans (b1.mono (by simp; omega)))
      obtain ⟨x0, x1, x2, x3⟩ := cells_three p1
      clear b1
      go_wp2_with (first | (refine wpList_store_pl 34 rfl _ _ rfl (w.heap.size + 1) ((i : Int) + (N : Int)) 2 0 rfl rfl 0 0 0 z1 sizePl ?_; intro wy ry gy))
      refine bodyPost_ret (results_cell_row rfl _ _ (w.heap.size + 1) 34 (plC ((i : Int) + (N : Int)) 2 0) (0, 0) _ rfl ry Try.underlying34 rfl sizePl) rfl ?_
      exact ⟨ret_pl (by omega) (by omega) (by omega), B1.out.grown gy B1.out.size (fun j hj => by cases hj; omega)⟩
set_option maxRecDepth 100000 in
set_option maxHeartbeats 2000000 in
theorem past_w2 (s : ByteArray) (i k : Nat) (w : World) (hs : s.size ≤ 1048576) (hi : i < s.size) (b45 : (((s[i].toNat : Nat) : Int) == 45) = false) (hb : (((s[i].toNat : Nat) : Int) == 62) = false ∨ (((s[i].toNat : Nat) : Int) == 62) = true ∧ decide ((2 : Int) ≤ (k : Int)) = false) :
    Calls Try.prog 30 #[.agg #[.int .i64 (i : Int), .int .i64 ((2 : Nat) : Int), .int .i64 (k : Int)], .string s] w fun e w' => e = .returned (.agg #[.int .i64 ((i + (if 0 < tagN [60, 47] (s.data.toList.drop i) then tagN [60, 47] (s.data.toList.drop i) else 1) : Nat) : Int), .int .i64 ((if 0 < tagN [60, 47] (s.data.toList.drop i) then 1 else 2 : Nat) : Int), .int .i64 ((0 : Nat) : Int)]) ∧ Below w.heap.size w w' := by
  have hb2 : (((s[i].toNat : Nat) : Int) == 62) = false ∨ (((s[i].toNat : Nat) : Int) == 62) = true ∧ decide ((2 : Int) ≤ (k : Int)) = false := hb
  have HT := fun w => Lib.hid (tagLen_any s i ⟨#[60, 47, 115, 99, 114, 105, 112, 116]⟩ [60, 47] w hs hi rfl (by decide))
  obtain ⟨N, hN⟩ : ∃ N, tagN [60, 47] (s.data.toList.drop i) = N := ⟨_, rfl⟩
  have hN9 : N ≤ 9 := by
    rw [← hN]; unfold tagN; split <;> simp
  rw [hN] at HT ⊢
  have h0 : N = 0 ∨ 0 < N := by omega
  clear hN hb
  rcases h0 with rfl | h0
  · simp only [Nat.lt_irrefl, if_false]
    rcases hb2 with b62 | ⟨b62, bk⟩
    all_goals
      go_enter Try.func30, Try.ntmps30
      go_wp2_with (fail)
      refine (HT _).out.mono ?_
      rintro e w1 ⟨rfl, b1⟩
      have p1 := (b1.block w.heap.size (by simp; omega)).trans (heap_alloc2_old w _ _)
      have z1 := (b1.block (w.heap.size + 1) (by simp)).trans (heap_alloc2_new w _ _)
      have B1 := Lib.hid ((((Below.refl _ w).alloc (Nat.le_refl _) (.cells #[.int .i64 (i : Int), .int .i64 (2 : Nat), .int .i64 (k : Int)] 34)).alloc (by simp) (.cells #[.int .i64 0, .int .i64 0, .int .i64 0] 34)).trans (b1.mono (by simp; omega)))
      obtain ⟨x0, x1, x2, x3⟩ := cells_three p1
      clear b1
      go_wp2_with (first | (refine wpList_store_pl 34 rfl _ _ rfl (w.heap.size + 1) ((i : Int) + 1) 2 0 rfl rfl 0 0 0 z1 sizePl ?_; intro wy ry gy))
      refine bodyPost_ret (results_cell_row rfl _ _ (w.heap.size + 1) 34 (plC ((i : Int) + 1) 2 0) (0, 0) _ rfl ry Try.underlying34 rfl sizePl) rfl ?_
      exact ⟨ret_pl (by omega) (by omega) (by omega), B1.out.grown gy B1.out.size (fun j hj => by cases hj; omega)⟩
  · simp only [if_pos h0]
    rcases hb2 with b62 | ⟨b62, bk⟩
    all_goals
      go_enter Try.func30, Try.ntmps30
      go_wp2_with (fail)
      refine (HT _).out.mono ?_
      rintro e w1 ⟨rfl, b1⟩
      have p1 := (b1.block w.heap.size (by simp; omega)).trans (heap_alloc2_old w _ _)
      have z1 := (b1.block (w.heap.size + 1) (by simp)).trans (heap_alloc2_new w _ _)
      have B1 := Lib.hid ((((Below.refl _ w).alloc (Nat.le_refl _) (.cells #[.int .i64 (i : Int), .int .i64 (2 : Nat), .int .i64 (k : Int)] 34)).alloc (by simp) (.cells #[.int .i64 0, .int .i64 0, .int .i64 0] 34)).trans (b1.mono (by simp; omega)))
      obtain ⟨x0, x1, x2, x3⟩ := cells_three p1
      clear b1
      go_wp2_with (first | (refine wpList_store_pl 34 rfl _ _ rfl (w.heap.size + 1) ((i : Int) + (N : Int)) 1 0 rfl rfl 0 0 0 z1 sizePl ?_; intro wy ry gy))
      refine bodyPost_ret (results_cell_row rfl _ _ (w.heap.size + 1) 34 (plC ((i : Int) + (N : Int)) 1 0) (0, 0) _ rfl ry Try.underlying34 rfl sizePl) rfl ?_
      exact ⟨ret_pl (by omega) (by omega) (by omega), B1.out.grown gy B1.out.size (fun j hj => by cases hj; omega)⟩
end Go.Proofs.Ythmfjnjjkcaalaa
