/-
  The program's flow, in blocks of its own: its struct (a Builder, how many lines' ends wait, which blanks), the Builder's row of bytes, the row of blanks: what its methods do.
-/
import Derived.Test.YtappdjhhaohejaaProg
import Derived.Test.YtappdjhhaohejaaObjs
import Derived.Test.YtappdjhhaohejaaFloMath
import Derived.Test.YtappdjhhaohejaaFloRow
import Derived.Maps.AppendAt
import Derived.StillTailTactics
import Derived.WalkKit
import Derived.BigCall
import Derived.Lib.Hide
import Derived.Lib.Builder
import Derived.KernelRfl
namespace Go.Proofs.Ytappdjhhaohejaa
open Go.RowKit Go.Lib

theorem sizeBuilderF : (Try.prog.info? 64).map (·.size) = some 2 := by kernel_rfl
theorem liesBuilderF : liesAt Try.prog Try.prog.depth 66 (4 / Try.prog.cellsOf 66) 0 64 1 = true := by kernel_rfl
theorem infoByteF : (Try.prog.info? 5).map (fun i => (i.zero, i.size, i.bytes)) = some (some (.int .u8 0), 1, 1) := by kernel_rfl
theorem cellsByteF : Try.prog.cellsOf 5 = 1 := by kernel_rfl

/-! rows that stand -/
theorem rowF_same {w w' : World} {base : Nat} {e : TypeId} {size : Nat} {v : Value} {n : Nat} {xs : List Value} (h : w.ownsRowF base e size v n xs) (hk : ∀ k, v.ownBlock = some k → w'.heap[k]? = w.heap[k]?) : w'.ownsRowF base e size v n xs := by
  refine ⟨h.1, ?_⟩
  rcases h.2 with hn | ⟨g, cap, cur, fz, rfl, hb, hg, rest⟩
  · exact .inl hn
  · exact .inr ⟨g, cap, cur, fz, rfl, hb, (hk g rfl).trans hg, rest⟩
theorem row_same {w w' : World} {base : Nat} {e : TypeId} {size : Nat} {v : Value} {n : Nat} {xs : List Value} (h : w.ownsRow base e size v n xs) (hk : ∀ k, v.ownBlock = some k → w'.heap[k]? = w.heap[k]?) : w'.ownsRow base e size v n xs := by
  refine ⟨h.1, ?_⟩
  rcases h.2 with hn | ⟨g, cap, cur, rfl, hb, hg, rest⟩
  · exact .inl hn
  · exact .inr ⟨g, cap, cur, rfl, hb, (hk g rfl).trans hg, rest⟩
theorem rowF_lt {w : World} {base : Nat} {e : TypeId} {size : Nat} {v : Value} {n : Nat} {xs : List Value} (h : w.ownsRowF base e size v n xs) (k : Nat) (hk : v.ownBlock = some k) : k < w.heap.size := (h.lt k hk).2
theorem row_lt {w : World} {base : Nat} {e : TypeId} {size : Nat} {v : Value} {n : Nat} {xs : List Value} (h : w.ownsRow base e size v n xs) (k : Nat) (hk : v.ownBlock = some k) : k < w.heap.size := (h.lt k hk).2

/-- the flow's struct at block b, and its two rows -/
structure FloX (w : World) (b : Nat) (p v1 : Value) (n : Nat) (v2 : Value) (t l : Txt) : Prop where
  blk : w.heap[b]? = some (.cells #[p, v1, .int .i64 (n : Int), v2] 66 (0, 0))
  ptr : p = .pointer none ∨ p = .pointer (some ⟨b, 0, none⟩)
  told : w.ownsRowF 0 5 1 v1 t.length (Lib.byteCells t)
  blanks : w.ownsRow 0 5 1 v2 l.length (Lib.byteCells l)
  apart : ∀ k, v1.ownBlock = some k → v2.ownBlock ≠ some k
  bare : t = [] → v1 = .slice none 0 0
/-- the blocks that it lies in -/
def Foot (b : Nat) (v1 v2 : Value) : Blocks := fun k => k = b ∨ v1.ownBlock = some k ∨ v2.ownBlock = some k
/-- the flow as an object -/
def FloO (g : Addr) (f : FloP) : Own := fun w F => ∃ b p v1 v2, g = ⟨b, 0, none⟩ ∧ FloX w b p v1 f.ends v2 f.told f.blanks ∧ ∀ k, F k ↔ Foot b v1 v2 k

section
variable {w w' : World} {b : Nat} {p v1 : Value} {n : Nat} {v2 : Value} {t l : Txt}
theorem FloX.ltb (h : FloX w b p v1 n v2 t l) : b < w.heap.size := (Array.getElem?_eq_some_iff.1 h.blk).1
theorem FloX.ne1 (h : FloX w b p v1 n v2 t l) : v1.ownBlock ≠ some b := Lib.ownBlock_neF h.told h.blk (by decide)
theorem FloX.ne2 (h : FloX w b p v1 n v2 t l) : v2.ownBlock ≠ some b := Lib.ownBlock_ne h.blanks h.blk (by decide)
theorem FloX.lt (h : FloX w b p v1 n v2 t l) : ∀ k, Foot b v1 v2 k → k < w.heap.size := by
  rintro k (rfl | hk | hk)
  · exact h.ltb
  · exact rowF_lt h.told k hk
  · exact row_lt h.blanks k hk
theorem FloX.same (h : FloX w b p v1 n v2 t l) (hk : ∀ k, Foot b v1 v2 k → w'.heap[k]? = w.heap[k]?) : FloX w' b p v1 n v2 t l :=
  ⟨(hk b (.inl rfl)).trans h.blk, h.ptr, rowF_same h.told (fun k e => hk k (.inr (.inl e))), row_same h.blanks (fun k e => hk k (.inr (.inr e))), h.apart, h.bare⟩
theorem FloX.cells (h : FloX w b p v1 n v2 t l) : w.cell? ⟨b, 0, none⟩ = some p ∧ w.cell? ⟨b, 1, none⟩ = some v1 ∧ w.cell? ⟨b, 2, none⟩ = some (.int .i64 (n : Int)) ∧ w.cell? ⟨b, 3, none⟩ = some v2 := by
  refine ⟨?_, ?_, ?_, ?_⟩ <;> (rw [Lib.cell_of_heap h.blk]; rfl)
theorem FloX.thawed (h : FloX w b p v1 n v2 t l) (i : Nat) : w.frozen? ⟨b, i, none⟩ = false := Lib.frozen_of_heap h.blk i
theorem FloX.shape (h : FloX w b p v1 n v2 t l) : w.shape? b = some (66, 4) := by simp [World.shape?, h.blk]
/-- the first row's form -/
theorem FloX.form1 (h : FloX w b p v1 n v2 t l) : ∃ a cap, v1 = .slice a t.length cap := by
  rcases h.told.2 with ⟨e, e0⟩ | ⟨g, cap, cur, fz, e, _⟩
  · exact ⟨none, 0, by rw [e, e0]⟩
  · exact ⟨_, cap, e⟩
theorem FloX.form2 (h : FloX w b p v1 n v2 t l) : (v2 = .slice none 0 0 ∧ l.length = 0) ∨ ∃ g cap, v2 = .slice (some ⟨g, 0, none⟩) l.length cap ∧ l.length ≤ cap ∧ cap ≤ maxLen := by
  rcases h.blanks.2 with ⟨e, e0⟩ | ⟨g, cap, cur, e, _, _, hc, hm, _⟩
  · exact .inl ⟨e, e0⟩
  · exact .inr ⟨g, cap, e, hc, hm⟩
/-- a store into the struct, behind what has grown a row -/
theorem moves_set {w w2 : World} {b : Nat} {v1 v2 v1' v2' : Value} {row : Option Nat} (hg : w.grownBy w2 row) (hrow : ∀ k, row = some k → Foot b v1 v2 k) (hf : ∀ k, Foot b v1' v2' k → Foot b v1 v2 k ∨ w.heap.size ≤ k) (i : Nat) (u : Value) :
    Moves (Foot b v1 v2) (Foot b v1' v2') w (w2.setCell ⟨b, i, none⟩ u) := by
  refine ⟨hg.os, hg.tape, hg.output, by simpa [World.setCell] using hg.size, fun k hk hF => ?_, hf⟩
  rw [Below.heap_setCell w2 ⟨b, i, none⟩ u k (fun e => hF (.inl e))]
  exact hg.block k hk (fun e => hF (hrow k e.symm))
theorem moves_one {w : World} {b : Nat} {v1 v2 : Value} (i : Nat) (u : Value) : Moves (Foot b v1 v2) (Foot b v1 v2) w (w.setCell ⟨b, i, none⟩ u) :=
  moves_set (World.grownBy.refl w none) (fun _ e => by cases e) (fun _ h => .inl h) i u
theorem FloX.other (h : FloX w b p v1 n v2 t l) (i : Nat) (u : Value) : (w.setCell ⟨b, i, none⟩ u).ownsRowF 0 5 1 v1 t.length (Lib.byteCells t) ∧ (w.setCell ⟨b, i, none⟩ u).ownsRow 0 5 1 v2 l.length (Lib.byteCells l) :=
  ⟨rowF_same h.told (fun k e => Below.heap_setCell w ⟨b, i, none⟩ u k (fun e2 => h.ne1 (by rw [e, e2]))), row_same h.blanks (fun k e => Below.heap_setCell w ⟨b, i, none⟩ u k (fun e2 => h.ne2 (by rw [e, e2])))⟩
/-- its own address laid down -/
theorem FloX.used (h : FloX w b p v1 n v2 t l) : FloX (w.setCell ⟨b, 0, none⟩ (.pointer (some ⟨b, 0, none⟩))) b (.pointer (some ⟨b, 0, none⟩)) v1 n v2 t l :=
  ⟨Go.heap_setCell_same w b 0 _ _ _ h.blk, .inr rfl, (h.other 0 _).1, (h.other 0 _).2, h.apart, h.bare⟩
/-- how many lines' ends wait -/
theorem FloX.waits (h : FloX w b p v1 n v2 t l) (m : Nat) : FloX (w.setCell ⟨b, 2, none⟩ (.int .i64 (m : Int))) b p v1 m v2 t l :=
  ⟨Go.heap_setCell_same w b 2 _ _ _ h.blk, h.ptr, (h.other 2 _).1, (h.other 2 _).2, h.apart, h.bare⟩
/-- other bytes told: the first row has grown -/
theorem FloX.grow1 {w2 : World} {v1' : Value} {t' : Txt} (h : FloX w b p v1 n v2 t l) (hg : w.grownBy w2 v1.ownBlock) (ho : w2.ownsRowF 0 5 1 v1' t'.length (Lib.byteCells t')) (hl : ∀ k, v1'.ownBlock = some k → v1.ownBlock = some k ∨ w.heap.size ≤ k) (hb : t' = [] → v1' = .slice none 0 0) :
    FloX (w2.setCell ⟨b, 1, none⟩ v1') b p v1' n v2 t' l ∧ Moves (Foot b v1 v2) (Foot b v1' v2) w (w2.setCell ⟨b, 1, none⟩ v1') := by
  have hb2 : w2.heap[b]? = some (.cells #[p, v1, .int .i64 (n : Int), v2] 66 (0, 0)) := (hg.block b h.ltb (fun e => h.ne1 e.symm)).trans h.blk
  have hne : ∀ k, v1'.ownBlock = some k → k ≠ b := fun k e e2 => by
    rcases hl k e with h1 | h1
    · exact h.ne1 (by rw [h1, e2])
    · have := h.ltb; omega
  refine ⟨⟨Go.heap_setCell_same w2 b 1 _ _ _ hb2, h.ptr, rowF_same ho (fun k e => Below.heap_setCell w2 ⟨b, 1, none⟩ _ k (hne k e)), ?_, fun k e => ?_, hb⟩, moves_set hg (fun k e => .inr (.inl e)) ?_ 1 _⟩
  · refine row_same h.blanks (fun k e => ?_)
    rw [Below.heap_setCell w2 ⟨b, 1, none⟩ _ k (fun e2 => h.ne2 (by rw [e, e2]))]
    exact hg.block k (row_lt h.blanks k e) (fun e2 => h.apart k e2.symm e)
  · rcases hl k e with h1 | h1
    · exact h.apart k h1
    · intro e2
      have := row_lt h.blanks k e2
      omega
  · rintro k (e | e | e)
    · exact .inl (.inl e)
    · exact (hl k e).elim (fun x => .inl (.inr (.inl x))) .inr
    · exact .inl (.inr (.inr e))
/-- other blanks: the second row has grown -/
theorem FloX.grow2 {w2 : World} {v2' : Value} {l' : Txt} (h : FloX w b p v1 n v2 t l) (hg : w.grownBy w2 v2.ownBlock) (ho : w2.ownsRow 0 5 1 v2' l'.length (Lib.byteCells l')) (hl : ∀ k, v2'.ownBlock = some k → v2.ownBlock = some k ∨ w.heap.size ≤ k) :
    FloX (w2.setCell ⟨b, 3, none⟩ v2') b p v1 n v2' t l' ∧ Moves (Foot b v1 v2) (Foot b v1 v2') w (w2.setCell ⟨b, 3, none⟩ v2') := by
  have hb2 : w2.heap[b]? = some (.cells #[p, v1, .int .i64 (n : Int), v2] 66 (0, 0)) := (hg.block b h.ltb (fun e => h.ne2 e.symm)).trans h.blk
  have hne : ∀ k, v2'.ownBlock = some k → k ≠ b := fun k e e2 => by
    rcases hl k e with h1 | h1
    · exact h.ne2 (by rw [h1, e2])
    · have := h.ltb; omega
  refine ⟨⟨Go.heap_setCell_same w2 b 3 _ _ _ hb2, h.ptr, ?_, row_same ho (fun k e => Below.heap_setCell w2 ⟨b, 3, none⟩ _ k (hne k e)), fun k e => ?_, h.bare⟩, moves_set hg (fun k e => .inr (.inr e)) ?_ 3 _⟩
  · refine rowF_same h.told (fun k e => ?_)
    rw [Below.heap_setCell w2 ⟨b, 3, none⟩ _ k (fun e2 => h.ne1 (by rw [e, e2]))]
    exact hg.block k (rowF_lt h.told k e) (fun e2 => h.apart k e e2.symm)
  · intro e2
    rcases hl k e2 with h1 | h1
    · exact h.apart k e h1
    · have := rowF_lt h.told k e
      omega
  · rintro k (e | e | e)
    · exact .inl (.inl e)
    · exact .inl (.inr (.inl e))
    · exact (hl k e).elim (fun x => .inl (.inr (.inr x))) .inr
end
theorem floO_lies (g : Addr) (f : FloP) : Lies (FloO g f) := by
  refine ⟨?_, ?_⟩
  · rintro w F ⟨b, p, v1, v2, rfl, h, hF⟩ k hk
    exact h.lt k ((hF k).1 hk)
  · rintro w w' F ⟨b, p, v1, v2, rfl, h, hF⟩ hk
    exact ⟨b, p, v1, v2, rfl, h.same (fun k e => hk k ((hF k).2 e)), hF⟩
/-- a flow's contract, told of its blocks -/
theorem floO_of {g : Addr} {f : FloP} {w : World} {F : Blocks} (h : FloO g f w F) : ∃ b p v1 v2, g = ⟨b, 0, none⟩ ∧ FloX w b p v1 f.ends v2 f.told f.blanks ∧ F = Foot b v1 v2 := by
  obtain ⟨b, p, v1, v2, e, h1, hF⟩ := h
  exact ⟨b, p, v1, v2, e, h1, funext fun k => propext (hF k)⟩

/-! the Builder, at the head of the struct -/
set_option maxHeartbeats 1000000 in
set_option maxRecDepth 100000 in
theorem ccF_used (b : Nat) (w : World) (h0 : w.cell? ⟨b, 0, none⟩ = some (.pointer (some ⟨b, 0, none⟩))) :
    Calls Try.prog 57 #[.pointer (some ⟨b, 0, none⟩)] w fun e w' => e = .returned (.tuple #[]) ∧ w = w' := by
  obtain ⟨j, hj, _⟩ := Option.map_eq_some_iff.1 sizeBuilderF
  go_enter Try.func57, Try.ntmps57
  go_wp2
  rw [Lib.run_neq_ptr_same w _ Try.underlying62 hj]
  go_wp2
  go_end0
  exact ⟨rfl, rfl⟩
set_option maxHeartbeats 1000000 in
set_option maxRecDepth 100000 in
theorem ccF_fresh (b : Nat) (w : World) (h0 : w.cell? ⟨b, 0, none⟩ = some (.pointer none)) (hsh : w.shape? b = some (66, 4)) (hfz : w.frozen? ⟨b, 0, none⟩ = false) :
    Calls Try.prog 57 #[.pointer (some ⟨b, 0, none⟩)] w fun e w' => e = .returned (.tuple #[]) ∧ w' = w.setCell ⟨b, 0, none⟩ (.pointer (some ⟨b, 0, none⟩)) := by
  obtain ⟨j, hj, hjs⟩ := Option.map_eq_some_iff.1 sizeBuilderF
  go_enter Try.func57, Try.ntmps57
  go_wp2
  rw [Lib.run_to_unsafe w ⟨b, 0, none⟩ Try.underlying62 Try.underlying84 hj (by rw [hjs]; decide) hsh (Nat.zero_lt_succ 3)]
  simp only [Result.andThen]
  rw [Oper.upon_value]
  go_wp2
  rw [run_callFunc_extern Try.func58 (by kernel_rfl) (by kernel_rfl) (by kernel_rfl) (e := Extern.AbiNoEscape.same) (by kernel_rfl)]
  rw [Lib.run_noEscape]
  simp only [Result.andThen]
  rw [Oper.upon_value]
  go_wp2
  rw [Lib.run_from_unsafe w ⟨b, 0, none⟩ Try.underlying84 Try.underlying62 hj hsh liesBuilderF]
  simp only [Result.andThen]
  rw [Oper.upon_value]
  go_wp2
  go_end0
  exact ⟨rfl, rfl⟩
theorem ccF {w : World} {b : Nat} {p v1 : Value} {n : Nat} {v2 : Value} {t l : Txt} (h : FloX w b p v1 n v2 t l) :
    Calls Try.prog 57 #[.pointer (some ⟨b, 0, none⟩)] w fun e w' => e = .returned (.tuple #[]) ∧ FloX w' b (.pointer (some ⟨b, 0, none⟩)) v1 n v2 t l ∧ Moves (Foot b v1 v2) (Foot b v1 v2) w w' := by
  rcases h.ptr with e | e
  · refine (ccF_fresh b w (by rw [h.cells.1, e]) h.shape (h.thawed 0)).mono ?_
    rintro x w' ⟨rfl, rfl⟩
    exact ⟨rfl, h.used, moves_one 0 _⟩
  · refine (ccF_used b w (by rw [h.cells.1, e])).mono ?_
    rintro x w' ⟨rfl, rfl⟩
    exact ⟨rfl, by rw [← e]; exact h, Moves.refl _ _⟩
theorem one_byteF (c : UInt8) (q : Int) (hq : (c.toNat : Int) = q) : Lib.byteCells [c] = [Value.int .u8 q] := by rw [← hq]; rfl
theorem src_one {w : World} {tx : TypeId} (ht : Try.prog.underlying tx = some (.slice 5)) (a : Addr) (q : Int) (h : w.cell? a = some (.int .u8 q)) : Src Try.prog 1 tx (.slice (some a) 1 1) 1 [.int .u8 q] w := by
  refine Src.ofSlice w ht a 1 1 _ rfl (fun j u hj => ?_) (fun u hu => ?_)
  · match j, hj with
    | 0, hj => simp at hj; subst hj; simpa [Addr.add] using h
  · simp at hu; subst hu; rfl

set_option maxHeartbeats 2000000 in
set_option maxRecDepth 100000 in
theorem writeByteF {w : World} {b : Nat} {p v1 : Value} {n : Nat} {v2 : Value} {t l : Txt} (h : FloX w b p v1 n v2 t l) (c : UInt8) (q : Int) (hq : (c.toNat : Int) = q) (ht : t.length ≤ 2147483648) :
    Calls Try.prog 55 #[.pointer (some ⟨b, 0, none⟩), .int .u8 q] w fun e w' => e = .returned .nilIface ∧ ∃ p' v1', FloX w' b p' v1' n v2 (t ++ [c]) l ∧ Moves (Foot b v1 v2) (Foot b v1' v2) w w' := by
  obtain ⟨i0, hi, hz0, hz1, hz2⟩ := info_parts infoByteF
  have HQ := Lib.hid (one_byteF c q hq)
  have CC := Lib.hid (ccF h)
  clear h hq
  go_enter Try.func55, Try.ntmps55
  go_wp2_with (go_at_call 57; refine CC.out.mono ?_)
  rintro e w1 ⟨rfl, h1, m1⟩
  have H1 := Lib.hid h1
  have M1 := Lib.hid m1
  obtain ⟨c0, c1, c2, c3⟩ := h1.cells
  have s1 := src_one (w := w1.alloc (.cells #[.int .u8 q] 5)) (tx := 39) Try.underlying39 ⟨w1.heap.size, 0, none⟩ q (by rw [Lib.cell_of_heap (heap_alloc_new w1 _)]; rfl)
  have S1 := Lib.hid s1
  clear h1 m1 c0 c2 c3 s1
  go_wp2_with (at_builtin; refine wpList_append_H _ rfl _ _ 39 39 rfl 5 i0 (.int .u8 0) Try.underlying39 hi hz0 hz1 hz2 rfl _ _ _ rfl (World.ownsRowF.alloc H1.out.told _) _ _ _ rfl S1.out (by omega) ?_)
  intro v' w2 hown hgrow hloc
  have hG : w1.grownBy w2 v1.ownBlock := (World.grownBy_alloc w1 _ _).trans hgrow
  have hL : ∀ k, v'.ownBlock = some k → v1.ownBlock = some k ∨ w1.heap.size ≤ k := fun k e => by
    rcases hloc with x | x
    · exact .inl (by rw [← x, e])
    · rw [e] at x; injection x with x; exact .inr (by rw [x]; simp)
  have hO : w2.ownsRowF 0 5 1 v' (t ++ [c]).length (Lib.byteCells (t ++ [c])) := by
    rw [List.length_append, Lib.byteCells_append, HQ.out]; exact hown
  obtain ⟨x1, x2⟩ := H1.out.grow1 (t' := t ++ [c]) hG hO hL (fun e => by simp at e)
  have X1 := Lib.hid x1
  have X2 := Lib.hid (M1.out.trans x2)
  have hb2 : w2.heap[b]? = w1.heap[b]? := hG.block b H1.out.ltb (fun e => H1.out.ne1 e.symm)
  have d1 : w2.cell? ⟨b, 1, none⟩ = some v1 := by rw [Lib.cell_of_heap (hb2.trans H1.out.blk)]; rfl
  have f1 : w2.frozen? ⟨b, 1, none⟩ = false := Lib.frozen_of_heap (hb2.trans H1.out.blk) 1
  clear hown hgrow hloc hG hL hO x1 x2 hb2
  obtain ⟨a, m, cap, e⟩ : ∃ a m cap, v' = .slice a m cap := by
    obtain ⟨a, cap, e⟩ := X1.out.form1
    exact ⟨a, _, cap, e⟩
  subst e
  go_wp2
  go_ret
  exact ⟨rfl, _, _, X1.out, X2.out⟩

/-- the blanks, as what is appended -/
theorem src_blanks {w : World} {b : Nat} {p v1 : Value} {n : Nat} {v2 : Value} {t l : Txt} (h : FloX w b p v1 n v2 t l) : Src Try.prog 1 39 v2 l.length (Lib.byteCells l) w := by
  rcases h.blanks.2 with ⟨rfl, e0⟩ | ⟨g, cap, cur, rfl, _, _⟩
  · have : l = [] := List.eq_nil_of_length_eq_zero e0
    subst this
    exact Src.ofNil w Try.underlying39 0
  · refine Src.ofSlice w Try.underlying39 ⟨g, 0, none⟩ l.length cap _ (by simp [Lib.byteCells]) (h.blanks.cells (g := g) rfl) (fun u hu => ?_)
    obtain ⟨c, _, rfl⟩ := List.mem_map.1 hu
    rfl

set_option maxHeartbeats 2000000 in
set_option maxRecDepth 100000 in
theorem writeF {w : World} {b : Nat} {p v1 : Value} {n : Nat} {v2 : Value} {t l : Txt} (h : FloX w b p v1 n v2 t l) (hne : t ≠ []) (ht : t.length + l.length ≤ 2147483648) :
    Calls Try.prog 56 #[.pointer (some ⟨b, 0, none⟩), v2] w fun e w' => e = .returned (.tuple #[.int .i64 (l.length : Int), .nilIface]) ∧ ∃ p' v1', FloX w' b p' v1' n v2 (t ++ l) l ∧ Moves (Foot b v1 v2) (Foot b v1' v2) w w' := by
  obtain ⟨i0, hi, hz0, hz1, hz2⟩ := info_parts infoByteF
  have HN := Lib.hid hne
  have CC := Lib.hid (ccF h)
  obtain ⟨a2, cap2, e2⟩ : ∃ a cap, v2 = .slice a l.length cap := by
    rcases h.form2 with ⟨e, e0⟩ | ⟨g, cap, e, _⟩
    · exact ⟨none, 0, by rw [e, e0]⟩
    · exact ⟨_, cap, e⟩
  subst e2
  clear h hne
  go_enter Try.func56, Try.ntmps56
  go_wp2_with (go_at_call 57; refine CC.out.mono ?_)
  rintro e w1 ⟨rfl, h1, m1⟩
  have H1 := Lib.hid h1
  have M1 := Lib.hid m1
  obtain ⟨c0, c1, c2, c3⟩ := h1.cells
  have S1 := Lib.hid (src_blanks h1)
  clear h1 m1 c0 c2 c3
  go_wp2_with (at_builtin; refine wpList_append_H _ rfl _ _ 39 39 rfl 5 i0 (.int .u8 0) Try.underlying39 hi hz0 hz1 hz2 rfl _ _ _ rfl H1.out.told _ _ _ rfl S1.out (by omega) ?_)
  intro v' w2 hown hG hloc
  have hL : ∀ k, v'.ownBlock = some k → v1.ownBlock = some k ∨ w1.heap.size ≤ k := fun k e => by
    rcases hloc with x | x
    · exact .inl (by rw [← x, e])
    · rw [e] at x; injection x with x; exact .inr (by rw [x]; exact Nat.le_refl _)
  have hO : w2.ownsRowF 0 5 1 v' (t ++ l).length (Lib.byteCells (t ++ l)) := by
    rw [List.length_append, Lib.byteCells_append]; exact hown
  obtain ⟨x1, x2⟩ := H1.out.grow1 (t' := t ++ l) hG hO hL (fun e => absurd (List.append_eq_nil_iff.1 e).1 HN.out)
  have X1 := Lib.hid x1
  have X2 := Lib.hid (M1.out.trans x2)
  have hb2 : w2.heap[b]? = w1.heap[b]? := hG.block b H1.out.ltb (fun e => H1.out.ne1 e.symm)
  have d1 : w2.cell? ⟨b, 1, none⟩ = some v1 := by rw [Lib.cell_of_heap (hb2.trans H1.out.blk)]; rfl
  have f1 : w2.frozen? ⟨b, 1, none⟩ = false := Lib.frozen_of_heap (hb2.trans H1.out.blk) 1
  clear hown hloc hG hL hO x1 x2 hb2
  obtain ⟨a, m, cap, e⟩ : ∃ a m cap, v' = .slice a m cap := by
    obtain ⟨a, cap, e⟩ := X1.out.form1
    exact ⟨a, _, cap, e⟩
  subst e
  go_wp2
  go_ret2
  exact ⟨rfl, _, _, X1.out, X2.out⟩

set_option maxHeartbeats 1000000 in
set_option maxRecDepth 100000 in
theorem lenF {w : World} {b : Nat} {p v1 : Value} {n : Nat} {v2 : Value} {t l : Txt} (h : FloX w b p v1 n v2 t l) :
    Calls Try.prog 54 #[.pointer (some ⟨b, 0, none⟩)] w fun e w' => e = .returned (.int .i64 (t.length : Int)) ∧ w' = w := by
  obtain ⟨a, cap, e⟩ := h.form1
  subst e
  obtain ⟨c0, c1, c2, c3⟩ := h.cells
  clear h
  go_enter Try.func54, Try.ntmps54
  go_wp2
  go_ret
  exact ⟨rfl, rfl⟩

/-- a row whose head is frozen -/
theorem FloX.froze {w : World} {b : Nat} {p : Value} {n : Nat} {v2 : Value} {t l : Txt} {g cap : Nat} (h : FloX w b p (.slice (some ⟨g, 0, none⟩) t.length cap) n v2 t l) :
    FloX (w.freeze ⟨g, 0, none⟩ t.length) b p (.slice (some ⟨g, 0, none⟩) t.length cap) n v2 t l ∧ Moves (Foot b (.slice (some ⟨g, 0, none⟩) t.length cap) v2) (Foot b (.slice (some ⟨g, 0, none⟩) t.length cap) v2) w (w.freeze ⟨g, 0, none⟩ t.length) := by
  have hgb : g ≠ b := fun e => h.ne1 (by simp [Value.ownBlock, e])
  have hoth : ∀ k, k ≠ g → (w.freeze ⟨g, 0, none⟩ t.length).heap[k]? = w.heap[k]? := fun k hk => by
    unfold World.freeze
    split
    · rfl
    · simp only [Array.getElem?_modify]
      rw [if_neg (fun e => hk e.symm)]
  refine ⟨⟨(hoth b (fun e => hgb e.symm)).trans h.blk, h.ptr, ?_, row_same h.blanks (fun k e => hoth k (fun e2 => h.apart g rfl (by rw [e, e2]))), h.apart, h.bare⟩, ?_⟩
  · refine ⟨h.told.1, ?_⟩
    rcases h.told.2 with ⟨hv, _⟩ | ⟨g', cap', cur, fz, hv, hbg, hg, hfz, rest⟩
    · cases hv
    · injection hv with ha _ hcap
      injection ha with ha
      injection ha with hgg _ _
      subst hgg
      subst hcap
      unfold World.freeze
      split
      · exact .inr ⟨g, _, cur, fz, rfl, hbg, hg, hfz, rest⟩
      · obtain ⟨lo, hi⟩ := fz
        refine .inr ⟨g, _, cur, (if lo == hi then (0, 0 + t.length) else (min lo 0, max hi (0 + t.length))), rfl, hbg, ?_, ?_, rest⟩
        · simp [Array.getElem?_modify, hg]
        · simp only at hfz
          split <;> simp <;> omega
  · refine ⟨?_, ?_, ?_, ?_, fun k hk hF => hoth k (fun e => hF (.inr (.inl (by rw [e]; rfl)))), fun _ h => .inl h⟩
    all_goals (unfold World.freeze; split <;> simp)
theorem FloX.drew {w : World} {b : Nat} {p v1 : Value} {n : Nat} {v2 : Value} {t l : Txt} (h : FloX w b p v1 n v2 t l) : FloX w.drew b p v1 n v2 t l := h.same (fun _ _ => rfl)
theorem moves_drew (F : Blocks) (w : World) : Moves F F w w.drew := Moves.of_below F (Below.refl _ w).drew

set_option maxHeartbeats 2000000 in
set_option maxRecDepth 100000 in
theorem stringF {w : World} {b : Nat} {p v1 : Value} {n : Nat} {v2 : Value} {t l : Txt} (h : FloX w b p v1 n v2 t l) :
    Calls Try.prog 38 #[.pointer (some ⟨b, 0, none⟩)] w fun e w' => e = .returned (.string ⟨t.toArray⟩) ∧ FloX w' b p v1 n v2 t l ∧ Moves (Foot b v1 v2) (Foot b v1 v2) w w' := by
  by_cases h0 : t = []
  · have e := h.bare h0
    subst e; subst h0
    have hUS : ∀ (W : World), (Builtin.unsafeString_ #[75, 3] 9 #[.pointer none, .int .i64 0]).run Try.prog W = .ok (.string .empty) W := fun W => Lib.run_unsafeString_none W _ _ _ none
    have hSD : (Builtin.unsafeSliceData_ #[39] 75 #[.slice none 0 0]).run Try.prog w.drew = .ok (.pointer none) w.drew := rfl
    have H := Lib.hid h
    obtain ⟨c0, c1, c2, c3⟩ := h.drew.cells
    clear h c0 c2 c3
    go_enter Try.func38, Try.ntmps38
    go_wp2
    go_region
    all_goals (go_wp2; go_ret; exact ⟨rfl, H.out.drew, moves_drew _ _⟩)
  · obtain ⟨g, cap, e, hc⟩ : ∃ g cap, v1 = .slice (some ⟨g, 0, none⟩) t.length cap ∧ t.length ≤ cap := by
      rcases h.told.2 with ⟨_, e⟩ | ⟨g, cap, cur, fz, e, _, _, _, hc, _⟩
      · exact absurd (List.eq_nil_of_length_eq_zero e) h0
      · exact ⟨g, cap, e, hc⟩
    subst e
    have hl0 : t.length ≠ 0 := fun e => h0 (List.eq_nil_of_length_eq_zero e)
    have hSD : (Builtin.unsafeSliceData_ #[39] 75 #[.slice (some ⟨g, 0, none⟩) t.length cap]).run Try.prog w.drew = .ok (.pointer (some ⟨g, 0, none⟩)) w.drew :=
      Lib.run_unsafeSliceData_row _ _ _ _ _ _ (by omega)
    have hUS : (Builtin.unsafeString_ #[75, 3] 9 #[.pointer (some ⟨g, 0, none⟩), .int .i64 t.length]).run Try.prog w.drew = .ok (.string ⟨t.toArray⟩) (w.drew.freeze ⟨g, 0, none⟩ t.length) := by
      rcases h.told.2 with ⟨hv, _⟩ | ⟨g', cap', cur, fz, hv, hbg, hg, hfz, hnc, hcm, hcs, _⟩
      · cases hv
      · injection hv with ha _ hcap
        injection ha with ha
        injection ha with hgg _ _
        subst hgg
        refine Lib.run_unsafeString_row w.drew 75 3 9 5 Try.underlying75 cellsByteF g cur.size (by have hg' : w.drew.heap[g]? = some (.cells cur 5 fz) := hg; simp [World.shape?, hg']) t h0 (by omega) (by unfold maxLen at hcm; omega) ?_
        intro j x hx
        exact h.drew.told.cells (g := g) rfl j (.int .u8 x.toNat) (by simp [Lib.byteCells, hx])
    obtain ⟨x1, x2⟩ := h.drew.froze
    have X1 := Lib.hid x1
    have X2 := Lib.hid ((moves_drew _ _).trans x2)
    obtain ⟨c0, c1, c2, c3⟩ := h.drew.cells
    clear h c0 c2 c3 x1 x2 h0
    go_enter Try.func38, Try.ntmps38
    go_wp2
    go_region
    all_goals (go_wp2; go_ret; exact ⟨rfl, X1.out, X2.out⟩)

/-! what is done -/
set_option maxHeartbeats 1000000 in
set_option maxRecDepth 100000 in
theorem dropF {w : World} {b : Nat} {p v1 : Value} {n : Nat} {v2 : Value} {t l : Txt} (h : FloX w b p v1 n v2 t l) :
    Calls Try.prog 48 #[.pointer (some ⟨b, 0, none⟩)] w fun e w' => e = .returned (.tuple #[]) ∧ ∃ v2', FloX w' b p v1 n v2' t [] ∧ Moves (Foot b v1 v2) (Foot b v1 v2') w w' := by
  obtain ⟨c0, c1, c2, c3⟩ := h.cells
  have f3 := h.thawed 3
  rcases h.blanks.2 with ⟨rfl, e0⟩ | ⟨g, cap, cur, rfl, hb, hg, hn, hm, hs, ht⟩
  · obtain ⟨x1, x2⟩ := h.grow2 (v2' := .slice none 0 0) (l' := []) (World.grownBy.refl w _) (World.ownsRow_nil w 0 _ 1) (fun k e => .inl e)
    have X1 := Lib.hid x1
    have X2 := Lib.hid x2
    clear h c0 c1 c2 x1 x2
    go_enter Try.func48, Try.ntmps48
    go_wp2
    refine bodyPost_end (results_none rfl _ _ _) rfl ?_
    exact ⟨rfl, _, X1.out, X2.out⟩
  · obtain ⟨x1, x2⟩ := h.grow2 (v2' := .slice (some ⟨g, 0, none⟩) 0 cap) (l' := []) (World.grownBy.refl w _) ⟨rfl, .inr ⟨g, cap, cur, rfl, hb, hg, Nat.zero_le _, hm, hs, by simp [Lib.byteCells]⟩⟩ (fun k e => .inl e)
    have X1 := Lib.hid x1
    have X2 := Lib.hid x2
    have hm2 : (cap : Int) ≤ 9223372036854775807 := by unfold maxLen at hm; omega
    have hn2 : (0 : Int) ≤ (cap : Int) := by omega
    clear h c0 c1 c2 x1 x2 hb hg hm hs ht hn
    go_enter Try.func48, Try.ntmps48
    go_wp2
    refine bodyPost_end (results_none rfl _ _ _) rfl ?_
    exact ⟨rfl, _, X1.out, X2.out⟩
set_option maxHeartbeats 1000000 in
set_option maxRecDepth 100000 in
theorem lineF_any {w : World} {b : Nat} {p v1 : Value} {n : Nat} {v2 : Value} {t l : Txt} (h : FloX w b p v1 n v2 t l) (hn : n ≤ 2147483648) :
    Calls Try.prog 43 #[.pointer (some ⟨b, 0, none⟩)] w fun e w' => e = .returned (.tuple #[]) ∧ ∃ v2', FloX w' b p v1 (n + 1) v2' t [] ∧ Moves (Foot b v1 v2) (Foot b v1 v2') w w' := by
  obtain ⟨c0, c1, c2, c3⟩ := h.cells
  have f2 := h.thawed 2
  have C := Lib.hid (dropF (h.waits (n + 1)))
  have M := Lib.hid (moves_one (w := w) (b := b) (v1 := v1) (v2 := v2) 2 (.int .i64 ((n + 1 : Nat) : Int)))
  clear h c0 c1 c3
  go_enter Try.func43, Try.ntmps43
  go_wp2_with (go_at_call 48; refine C.out.mono ?_; rintro e w' ⟨rfl, v2', x1, x2⟩; have X1 := Lib.hid x1; have X2 := Lib.hid (M.out.trans x2); clear x1 x2)
  refine bodyPost_end (results_none rfl _ _ _) rfl ?_
  exact ⟨rfl, v2', X1.out, X2.out⟩
set_option maxHeartbeats 1000000 in
set_option maxRecDepth 100000 in
theorem breakF_any {w : World} {b : Nat} {p v1 : Value} {n : Nat} {v2 : Value} {t l : Txt} (h : FloX w b p v1 n v2 t l) (m : Int) (hn : n ≤ 2147483648) (hm : -9223372036854775808 ≤ m ∧ m ≤ 9223372036854775807) :
    Calls Try.prog 44 #[.pointer (some ⟨b, 0, none⟩), .int .i64 m] w fun e w' => e = .returned (.tuple #[]) ∧ ∃ v2', FloX w' b p v1 (max n (min m 100).toNat) v2' t [] ∧ Moves (Foot b v1 v2) (Foot b v1 v2') w w' := by
  obtain ⟨c0, c1, c2, c3⟩ := h.cells
  have f2 := h.thawed 2
  obtain ⟨r, hr⟩ : ∃ r : Nat, max n (min m 100).toNat = r := ⟨_, rfl⟩
  rw [hr]
  have C := Lib.hid (dropF (h.waits r))
  have M := Lib.hid (moves_one (w := w) (b := b) (v1 := v1) (v2 := v2) 2 (.int .i64 (r : Int)))
  clear h c0 c1 c3
  by_cases h1 : m ≤ 100 <;> by_cases h2 : (n : Int) < min m 100
  · obtain rfl : m = (r : Int) := by omega
    have h2 : (n : Int) < (r : Int) := by omega
    have e1 : min (r : Int) 100 = (r : Int) := by omega
    have e2 : max (n : Int) (r : Int) = (r : Int) := by omega
    clear hr
    go_enter Try.func44, Try.ntmps44
    go_wp2_with (go_at_call 48; refine C.out.mono ?_; rintro e w' ⟨rfl, v2', x1, x2⟩; have X1 := Lib.hid x1; have X2 := Lib.hid (M.out.trans x2); clear x1 x2)
    refine bodyPost_end (results_none rfl _ _ _) rfl ?_
    exact ⟨rfl, v2', X1.out, X2.out⟩
  · obtain rfl : r = n := by omega
    have h2 : m ≤ (r : Int) := by omega
    have e1 : min m 100 = m := by omega
    have e2 : max (r : Int) m = (r : Int) := by omega
    clear hr
    go_enter Try.func44, Try.ntmps44
    go_wp2_with (go_at_call 48; refine C.out.mono ?_; rintro e w' ⟨rfl, v2', x1, x2⟩; have X1 := Lib.hid x1; have X2 := Lib.hid (M.out.trans x2); clear x1 x2)
    refine bodyPost_end (results_none rfl _ _ _) rfl ?_
    exact ⟨rfl, v2', X1.out, X2.out⟩
  · obtain rfl : r = 100 := by omega
    have h2 : (n : Int) < 100 := by omega
    have h1 : 100 < m := by omega
    have e1 : min m 100 = 100 := by omega
    have e2 : max (n : Int) 100 = 100 := by omega
    clear hr
    go_enter Try.func44, Try.ntmps44
    go_wp2_with (go_at_call 48; refine C.out.mono ?_; rintro e w' ⟨rfl, v2', x1, x2⟩; have X1 := Lib.hid x1; have X2 := Lib.hid (M.out.trans x2); clear x1 x2)
    refine bodyPost_end (results_none rfl _ _ _) rfl ?_
    exact ⟨rfl, v2', X1.out, X2.out⟩
  · obtain rfl : r = n := by omega
    have h2 : (100 : Int) ≤ (r : Int) := by omega
    have h1 : 100 < m := by omega
    have e1 : min m 100 = 100 := by omega
    have e2 : max (r : Int) 100 = (r : Int) := by omega
    clear hr
    go_enter Try.func44, Try.ntmps44
    go_wp2_with (go_at_call 48; refine C.out.mono ?_; rintro e w' ⟨rfl, v2', x1, x2⟩; have X1 := Lib.hid x1; have X2 := Lib.hid (M.out.trans x2); clear x1 x2)
    refine bodyPost_end (results_none rfl _ _ _) rfl ?_
    exact ⟨rfl, v2', X1.out, X2.out⟩
end Go.Proofs.Ytappdjhhaohejaa
