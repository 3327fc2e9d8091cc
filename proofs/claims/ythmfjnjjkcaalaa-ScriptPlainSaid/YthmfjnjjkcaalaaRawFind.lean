/-
  What package raw's Find answers: it ranges over a function that tells each place of a mark.
-/
import Derived.RangeFuncNested
import Derived.RangeFuncBound
import Derived.RangeFuncCalls
import Derived.RangeFuncLeaves
import Derived.Shelf.Abstract
import Derived.Shelf.RegionOpen
import Derived.WalkKit
import Derived.OwnWalkIn
import Derived.TacticsInMore
import Derived.LoopNIn
import Derived.LoopIn
import Derived.Test.YthmfjnjjkcaalaaRawEnds
import Derived.Test.YthmfjnjjkcaalaaMaxLen
namespace Go.Proofs.Ythmfjnjjkcaalaa
open Go.RowKit Go.Lib Go.Shelf

attribute [local go_sem] Oper.semAt_some

theorem box_cell {W : World} {B : Nat} {v : Value} {t : TypeId} (h : W.heap[B]? = some (.cells #[v] t (0, 0))) : W.cell? ⟨B, 0, none⟩ = some v ∧ W.frozen? ⟨B, 0, none⟩ = false := by
  constructor <;> simp [World.cell?, World.frozen?, h]
theorem box_new (W : World) (v : Value) (t : TypeId) : (W.alloc (.cells #[v] t)).cell? ⟨W.heap.size, 0, none⟩ = some v ∧ (W.alloc (.cells #[v] t)).frozen? ⟨W.heap.size, 0, none⟩ = false :=
  box_cell (World.alloc_heap_new W _)
theorem box_alloc {W : World} {a : Addr} {v : Value} (o : Obj) (h : W.cell? a = some v) : (W.alloc o).cell? a = some v := cell_kept h (World.grownBy_alloc W o none) (fun r e => by cases e)
theorem box_frozen {W : World} {a : Addr} {v : Value} (o : Obj) (h : W.cell? a = some v) (hf : W.frozen? a = false) : (W.alloc o).frozen? a = false := (frozen_kept h (World.grownBy_alloc W o none) (fun r e => by cases e)).trans hf
/-- what is below all that lay keeps whatever is no cells -/
theorem keeps_below {W W' : World} (h : Below W.heap.size W W') : KeepsOthers W W' :=
  ⟨h.size, fun k _ hk _ => (h.block k (Array.getElem?_eq_some_iff.1 hk).1).trans hk⟩

/-- a place in a text -/
abbrev Plc : Type := { x : Nat // x ≤ 1048576 }
def plcs (l : List Plc) : List Nat := l.map (·.1)
theorem plcs_add (l : List Plc) (x : Plc) : plcs (l ++ [x]) = plcs l ++ [x.1] := by simp [plcs]
theorem plcs_len (l : List Plc) : (plcs l).length = l.length := List.length_map _

set_option maxHeartbeats 1000000 in
/-- marks: both parameters are boxed; the function value captures the boxes -/
theorem marks_in (F : Fence) (n : Nat) (hf : F.fn 23) (hro : F.round = none) (s : ByteArray) (k : Int) (w : World) :
    CallsIn F n Try.prog 23 #[.string s, .int .i64 k] w fun e w' => e = .returned (.func (.func 34) #[] #[.pointer (some ⟨w.heap.size + 1, 0, none⟩), .pointer (some ⟨w.heap.size, 0, none⟩)]) ∧ w' = (w.alloc (.cells #[.string s] 9)).alloc (.cells #[.int .i64 k] 3) := by
  refine callsIn_of_wp Try.func23 rfl hf ?_ hro
  simp only [Try.ntmps23, List.size_toArray, List.length_cons, List.length_nil, Nat.reduceAdd, Nat.reduceSub, Array.replicate_succ, Array.replicate_zero, List.push_toArray, List.append_toArray, List.nil_append, List.cons_append]
  gi_wp2
  go_ret
  exact ⟨rfl, rfl⟩

set_option maxRecDepth 100000 in
set_option maxHeartbeats 2000000 in
/-- the iterator: each place of a mark from k on, one behind the other -/
theorem marks1_in (n : Nat) (hn : 1 ≤ n) (l Bs Bk n0 : Nat) (s : ByteArray) (k : Nat) (hs : s.size ≤ 1048576) (hk : k ≤ s.size) (J Jx : List Plc → World → Prop)
    (hY : ∀ pre (x : Plc) W, J pre W → pre.length < (marksL k (s.data.toList.drop k)).length → YieldAt Fence.wide (n - 1) Try.prog l #[.int .i64 (x.1 : Int)] W fun e W' =>
      (e = .returned (.bool true) ∧ J (pre ++ [x]) W' ∧ Below n0 W W') ∨ (e = .returned (.bool false) ∧ Jx (pre ++ [x]) W'))
    (W : World) (hBs : W.cell? ⟨Bs, 0, none⟩ = some (.string s)) (hBk : W.cell? ⟨Bk, 0, none⟩ = some (.int .i64 (k : Int))) (hBn : Bs < n0) (hM : ∃ m, W.cell? ⟨0, 0, none⟩ = some (.int .i64 m)) (hMn : 0 < n0) (h0 : J [] W) :
    CallsIn Fence.wide n Try.prog 34 #[.func (.yield l) #[] #[], .pointer (some ⟨Bk, 0, none⟩), .pointer (some ⟨Bs, 0, none⟩)] W fun e W' => (∃ v, e = .returned v) ∧
      ((∃ ys, plcs ys = marksL k (s.data.toList.drop k) ∧ J ys W') ∨ (∃ pre, plcs pre <+: marksL k (s.data.toList.drop k) ∧ Jx pre W')) := by
  refine callsIn_of_wp Try.func34 rfl trivial ?_ rfl
  simp only [Try.ntmps34, List.size_toArray, List.length_cons, List.length_nil, Nat.reduceAdd, Nat.reduceSub, Array.replicate_succ, Array.replicate_zero, List.push_toArray, List.append_toArray, List.nil_append, List.cons_append]
  obtain ⟨L, hL⟩ : ∃ L, marksL k (s.data.toList.drop k) = L := ⟨_, rfl⟩
  rw [hL] at hY ⊢
  have HL := Lib.hid hL
  have HY := Lib.hid hY
  clear hL hY
  gi_wp2
  gi_loopw [4] (fun p wr => ∃ (j : Nat) (pre : List Plc), p = .int .i64 (j : Int) ∧ j ≤ s.size ∧ Hid (plcs pre ++ marksL j (s.data.toList.drop j) = L) ∧ wr.cell? ⟨Bs, 0, none⟩ = some (.string s) ∧ (∃ m, wr.cell? ⟨0, 0, none⟩ = some (.int .i64 m)) ∧ J pre wr)
    (fun p wr => s.size - (intOf p).toNat)
  case atStart =>
    exact ⟨k, [], rfl, hk, HL, hBs, hM, h0⟩
  case round =>
    obtain ⟨j, pre, rfl, hj, HI, hBs', ⟨m, hm⟩, hJ⟩ := hrel
    have HC := Lib.hid ((callsIn_wide (n := n - 1)).2 (Try.strings_Index (s.extract j s.size) ⟨#[60, 47]⟩ m wr (by rw [ByteArray.size_extract]; omega) hm))
    rw [raw_tail] at HC
    have hje : j ≤ 1048576 := by omega
    have h1 : 1 ≤ n - 1 + 1 := by omega
    by_cases hneg : Lib.index (s.data.toList.drop j) [60, 47] = -1
    · have HE := Lib.hid (marks_index_none j _ hneg)
      rw [show Lib.index (s.data.toList.drop j) (⟨#[60, 47]⟩ : ByteArray).data.toList = -1 from hneg] at HC
      clear hneg
      gi_wp2_with (refine ⟨trivial, ?_⟩; gi_at_call 35; refine HC.out.mono ?_; rintro e w' ⟨rfl, rfl⟩)
      refine ⟨fun _ h => (by cases h), ?_⟩
      gi_wp2
      refine bodyPost_ret (results_none rfl _ _ _) rfl ?_
      exact ⟨⟨_, rfl⟩, .inl ⟨pre, by rw [← HI.out, HE.out, List.append_nil], hJ⟩⟩
    · obtain ⟨i, hi⟩ : ∃ i : Nat, Lib.index (s.data.toList.drop j) [60, 47] = i := ⟨(Lib.index (s.data.toList.drop j) [60, 47]).toNat, by have := Lib.index_ge (s.data.toList.drop j) [60, 47]; omega⟩
      obtain ⟨hr, HE⟩ := marks_index_some j _ i hi
      rw [List.length_drop, ← Lib.size_eq] at hr
      rw [List.drop_drop] at HE
      rw [show Lib.index (s.data.toList.drop j) (⟨#[60, 47]⟩ : ByteArray).data.toList = (i : Int) from hi] at HC
      obtain ⟨x, hx⟩ : ∃ x, j + i = x := ⟨_, rfl⟩
      rw [show j + (i + 2) = x + 2 by omega, hx] at HE
      have hxi : (j : Int) + (i : Int) = (x : Int) := by omega
      have hlen : pre.length < L.length := by
        rw [← HI.out, HE, List.length_append, List.length_cons, plcs_len]; omega
      obtain ⟨fn, tmps, assign, body, hy, hR⟩ := HY.out pre ⟨x, by omega⟩ wr hJ hlen
      dsimp only at hy
      have HE := Lib.hid HE
      have di : decide ((i : Int) < 0) = false := decide_eq_false (by omega)
      clear hneg hi hlen
      gi_wp2_with (refine ⟨trivial, ?_⟩; gi_at_call 35; refine HC.out.mono ?_; rintro e w' ⟨rfl, rfl⟩)
      refine hR.mono ?_
      rintro e W3 (⟨rfl, hJ3, hk3⟩ | ⟨rfl, hJx3⟩)
      · have hs3 : W3.cell? ⟨Bs, 0, none⟩ = some (.string s) := (hk3.cell (p := ⟨Bs, 0, none⟩) hBn).trans hBs'
        have hm3 : W3.cell? ⟨0, 0, none⟩ = some (.int .i64 m) := (hk3.cell (p := ⟨0, 0, none⟩) hMn).trans hm
        gi_wp2
        go_roundw
        case rel => exact ⟨x + 2, pre ++ [⟨x, _⟩], by congr 1; omega, by omega, Lib.hid (by rw [plcs_add, List.append_assoc, List.singleton_append, ← HE.out]; exact HI.out), hs3, ⟨m, hm3⟩, hJ3⟩
        case measure => simp [intOf]; omega
      · gi_wp2
        refine bodyPost_ret (results_none rfl _ _ _) rfl ?_
        exact ⟨⟨_, rfl⟩, .inr ⟨pre ++ [⟨x, _⟩], ⟨marksL (x + 2) (s.data.toList.drop (x + 2)), by rw [plcs_add, List.append_assoc, List.singleton_append, ← HE.out]; exact HI.out⟩, hJx3⟩⟩

/-- what marks hands back, ranged over -/
theorem marks_stops (n : Nat) (hn : 1 ≤ n) (Bs Bk n0 : Nat) (s : ByteArray) (k : Nat) (hs : s.size ≤ 1048576) (hk : k ≤ s.size) (w : World) (hBs : Bs < w.heap.size) (hBk : Bk < w.heap.size)
    (cs : w.cell? ⟨Bs, 0, none⟩ = some (.string s)) (ck : w.cell? ⟨Bk, 0, none⟩ = some (.int .i64 (k : Int))) (hBn : Bs < n0) (hM : MaxAt w) (hMn : 0 < n0) :
    SeqStopsK Fence.wide n Try.prog 34 #[.pointer (some ⟨Bk, 0, none⟩), .pointer (some ⟨Bs, 0, none⟩)] (fun x : Plc => #[Value.int .i64 (x.1 : Int)]) (Below n0) (fun ys => plcs ys = marksL k (s.data.toList.drop k)) (fun pre => plcs pre <+: marksL k (s.data.toList.drop k)) (marksL k (s.data.toList.drop k)).length w := fun l J Jx W hW _ _ hY h0 =>
  marks1_in n hn l Bs Bk n0 s k hs hk J Jx hY W ((hW.cell (p := ⟨Bs, 0, none⟩) hBs).trans cs) ((hW.cell (p := ⟨Bk, 0, none⟩) hBk).trans ck) hBn (hM.below hW).cell hMn h0

set_option maxRecDepth 100000 in
set_option maxHeartbeats 4000000 in
theorem find_any (s : ByteArray) (a : Int) (nm : ByteArray) (w : World) (hs : s.size ≤ 1048576) (hn : nm.size ≤ 1048576) (ha : -9223372036854775808 ≤ a ∧ a ≤ 9223372036854775807) (hM : MaxAt w) :
    Calls Try.prog 14 #[.string s, .int .i64 a, .string nm] w fun e W' => e = .returned (.int .i64 (findV nm.data.toList s.data.toList a : Int)) ∧ Below w.heap.size w W' := by
  obtain ⟨k, hk⟩ : ∃ k, plN s.size a = k := ⟨_, rfl⟩
  have hks : k ≤ s.size := by unfold plN at hk; omega
  have hfv : findV nm.data.toList s.data.toList a = findV nm.data.toList s.data.toList (k : Int) := by
    rw [findV_in _ _ k (by rw [← Lib.size_eq]; exact hks)]
    unfold findV; rw [← Lib.size_eq, hk]
  rw [hfv]
  have hmn : max (0 : Int) (min a (s.size : Int)) = (k : Int) := by unfold plN at hk; omega
  clear hfv hk
  obtain ⟨L, hL⟩ : ∃ L, marksL k (s.data.toList.drop k) = L := ⟨_, rfl⟩
  have HL := Lib.hid hL
  refine (callsIn_wide (n := 3)).1 ?_
  refine callsIn_of_wp_marks Try.func14 rfl trivial ?_ rfl
  simp only [Try.ntmps14, List.size_toArray, List.length_cons, List.length_nil, Nat.reduceAdd, Nat.reduceSub, Array.replicate_succ, Array.replicate_zero, List.push_toArray, List.append_toArray, List.nil_append, List.cons_append]
  gi_wp2_with (refine ⟨trivial, ?_⟩; gi_at_call 23; refine (marks_in Fence.wide _ trivial rfl s (k : Int) _).mono ?_; rintro e w' ⟨rfl, rfl⟩)
  obtain ⟨W0, hW0⟩ : ∃ W0, (((((w.alloc (.cells #[.string s] 9)).alloc (.cells #[.string nm] 9)).alloc (.cells #[.int .i64 0] 3)).alloc (.cells #[.string s] 9)).alloc (.cells #[.int .i64 (k : Int)] 3)) = W0 := ⟨_, rfl⟩
  have c0 := box_new w (.string s) 9
  have c1 := box_new (w.alloc (.cells #[.string s] 9)) (.string nm) 9
  have c2 := box_new ((w.alloc (.cells #[.string s] 9)).alloc (.cells #[.string nm] 9)) (.int .i64 0) 3
  have c3 := box_new (((w.alloc (.cells #[.string s] 9)).alloc (.cells #[.string nm] 9)).alloc (.cells #[.int .i64 0] 3)) (.string s) 9
  have c4 := box_new ((((w.alloc (.cells #[.string s] 9)).alloc (.cells #[.string nm] 9)).alloc (.cells #[.int .i64 0] 3)).alloc (.cells #[.string s] 9)) (.int .i64 (k : Int)) 3
  simp only [World.size_alloc] at c1 c2 c3 c4
  have d0 : W0.cell? ⟨w.heap.size, 0, none⟩ = some (.string s) := by rw [← hW0]; exact box_alloc _ (box_alloc _ (box_alloc _ (box_alloc _ c0.1)))
  have d1 : W0.cell? ⟨w.heap.size + 1, 0, none⟩ = some (.string nm) := by rw [← hW0]; exact box_alloc _ (box_alloc _ (box_alloc _ c1.1))
  have d2 : W0.cell? ⟨w.heap.size + 1 + 1, 0, none⟩ = some (.int .i64 0) := by rw [← hW0]; exact box_alloc _ (box_alloc _ c2.1)
  have e2 : W0.frozen? ⟨w.heap.size + 1 + 1, 0, none⟩ = false := by rw [← hW0]; exact box_frozen _ (box_alloc _ c2.1) (box_frozen _ c2.1 c2.2)
  have d3 : W0.cell? ⟨w.heap.size + 1 + 1 + 1, 0, none⟩ = some (.string s) := by rw [← hW0]; exact box_alloc _ c3.1
  have d4 : W0.cell? ⟨w.heap.size + 1 + 1 + 1 + 1, 0, none⟩ = some (.int .i64 (k : Int)) := by rw [← hW0]; exact c4.1
  have hz : W0.heap.size = w.heap.size + 5 := by rw [← hW0]; simp
  have hB0 : Below w.heap.size w W0 := by
    rw [← hW0]
    exact (((((Below.refl _ w).alloc (Nat.le_refl _) _).alloc (by simp) _).alloc (by simp; omega) _).alloc (by simp; omega) _).alloc (by simp; omega) _
  have hM0 : MaxAt W0 := hM.below hB0
  have hlt := hM.lt
  rw [hW0]
  clear c0 c1 c2 c3 c4
  have HE := fun (x : Plc) w => Lib.hid ((callsIn_wide (n := 3 - 1 - 1 - 1)).2 (ends_any s (x.1 : Int) nm w hs hn (by have := x.2; omega)))
  clear ha hmn
  refine wpIn_rangeFunc_ownF rfl (by omega) (gf := 34) (lb := #[.pointer (some ⟨w.heap.size + 1 + 1 + 1 + 1, 0, none⟩), .pointer (some ⟨w.heap.size + 1 + 1 + 1, 0, none⟩)]) rfl trivial (enters_of Try.func34 (by kernel_rfl) rfl)
    (marks_stops (3 - 1) (by omega) (w.heap.size + 1 + 1 + 1) (w.heap.size + 1 + 1 + 1 + 1) (w.heap.size + 5) s k hs hks W0 (by omega) (by omega) d3 d4 (by omega) hM0 (by omega)) belowK_t (belowK_b (by omega)) (Below.refl _ _) (fun _ => rfl)
    (fun pre W => ((∀ y ∈ plcs pre, endR nm.data.toList (s.data.toList.drop y) = false) ∧ W.cell? ⟨w.heap.size, 0, none⟩ = some (.string s) ∧ W.cell? ⟨w.heap.size + 1, 0, none⟩ = some (.string nm) ∧ W.cell? ⟨w.heap.size + 1 + 1, 0, none⟩ = some (.int .i64 0) ∧ W.frozen? ⟨w.heap.size + 1 + 1, 0, none⟩ = false) ∧ w.heap.size + 5 ≤ W.heap.size ∧ Below w.heap.size w W)
    (fun c pre W => (c = .ret ∧ ∃ p x, pre = p ++ [x] ∧ (∀ y ∈ plcs p, endR nm.data.toList (s.data.toList.drop y) = false) ∧ endR nm.data.toList (s.data.toList.drop x.1) = true ∧ W.cell? ⟨w.heap.size + 1 + 1, 0, none⟩ = some (.int .i64 (x.1 : Int))) ∧ Below w.heap.size w W)
    (OwnFrom.and (Own.from (fun _ _ _ _ hs hg hr => ⟨hs.1, cell_kept hs.2.1 hg hr, cell_kept hs.2.2.1 hg hr, cell_kept hs.2.2.2.1 hg hr, (frozen_kept hs.2.2.2.1 hg hr).trans hs.2.2.2.2⟩) _) (OwnFrom.and (fun _ _ _ _ hs hg _ => Nat.le_trans hs hg.size) (ownFrom_below (Nat.le_refl _) (by omega))))
    (fun c => OwnFrom.and (Own.from (fun s A B row hs hg hr => by
      obtain ⟨h1, p, x, h2, h3, h4, h5⟩ := hs
      exact ⟨h1, p, x, h2, h3, h4, cell_kept h5 hg hr⟩) _) (ownFrom_below (Nat.le_refl _) (by omega)))
    ⟨⟨by simp [plcs], d0, d1, d2, e2⟩, by omega, hB0⟩
    (fun x => { tmps := #[.string s, .int .i64 a, .string nm, .pointer (some ⟨w.heap.size, 0, none⟩), undef, .pointer (some ⟨w.heap.size + 1, 0, none⟩), .pointer (some ⟨w.heap.size + 1 + 1, 0, none⟩), .int .i64 (k : Int), .int .i64 (x.1 : Int), .int .i64 a, .string s, .int .i64 (s.size : Int), .int .i64 (min a (s.size : Int)), .int .i64 (k : Int), .string s, .int .i64 (k : Int), .func (.func 34) #[] #[.pointer (some ⟨w.heap.size + 1 + 1 + 1 + 1, 0, none⟩), .pointer (some ⟨w.heap.size + 1 + 1 + 1, 0, none⟩)], .int .i64 (x.1 : Int), undef, undef, undef, undef, undef, undef, undef], defers := [] }) ?assign ?body ?done ?stop
  case assign =>
    intro l x W K hK
    gi_wp2
    exact hK
  case body =>
    rintro l pre x W ⟨⟨hp, hcs, hcn, hcr, hfr⟩, hsz, hB⟩ _
    have HX := HE x W
    rw [endV_in] at HX
    obtain ⟨E, hE⟩ : ∃ E, endR nm.data.toList (s.data.toList.drop x.1) = E := ⟨_, rfl⟩
    rw [hE] at HX
    have HN := Lib.hid hE
    have HP := Lib.hid hp
    clear hE hp HE
    cases E
    · gi_wp2_with (refine ⟨trivial, ?_⟩; gi_at_call 15; refine (CallsIn.inRound l HX.out).mono ?_; rintro e w' ⟨rfl, b1⟩)
      exact ⟨keeps_below b1, b1.mono hsz, ⟨⟨fun y hy => by
          rw [plcs_add, List.mem_append, List.mem_singleton] at hy
          exact hy.elim (HP.out y) (fun e => e ▸ HN.out), (b1.cell (p := ⟨w.heap.size, 0, none⟩) (by simp; omega)).trans hcs, (b1.cell (p := ⟨w.heap.size + 1, 0, none⟩) (by simp; omega)).trans hcn, (b1.cell (p := ⟨w.heap.size + 1 + 1, 0, none⟩) (by simp; omega)).trans hcr, (b1.frozen (p := ⟨w.heap.size + 1 + 1, 0, none⟩) (by simp; omega)).trans hfr⟩, Nat.le_trans hsz b1.size, hB.trans (b1.mono (by omega))⟩⟩
    · gi_wp2_with (refine ⟨trivial, ?_⟩; gi_at_call 15; refine (CallsIn.inRound l HX.out).mono ?_; rintro e w' ⟨rfl, b1⟩; have hcr' := (b1.cell (p := ⟨w.heap.size + 1 + 1, 0, none⟩) (by simp; omega)).trans hcr; have hfr' := (b1.frozen (p := ⟨w.heap.size + 1 + 1, 0, none⟩) (by simp; omega)).trans hfr)
      exact ⟨(keeps_below b1).trans (KeepsOthers.setCell _ _ _), ⟨rfl, pre, x, rfl, HP.out, HN.out, World.cell?_setCell_same' _ _ _ (by rw [hcr']; rfl)⟩, (hB.trans (b1.mono (by omega))).setCell (p := ⟨w.heap.size + 1 + 1, 0, none⟩) (by simp; omega) _⟩
  case done =>
    rintro D ys W hD hys ⟨⟨hp, hcs, hcn, hcr, hfr⟩, hsz, hB⟩ hK
    have HF := Lib.hid (find_marks_none nm.data.toList s.data.toList k (by rw [← Lib.size_eq]; exact hks) (by rw [← hys]; exact hp))
    rw [← Lib.size_eq] at HF
    clear hp hys
    gi_wp2
    have hK' := (KeepsOthers.setCell W ⟨w.heap.size + 1 + 1, 0, none⟩ (.int .i64 (s.size : Int))).same D _ hK rfl
    refine ⟨by simp, .inl ⟨_, _, rfl, run_takeDeferred hK', ?_⟩⟩
    have hc5 := cell_kept (World.cell?_setCell_same' W ⟨w.heap.size + 1 + 1, 0, none⟩ (.int .i64 (s.size : Int)) (by rw [hcr]; rfl)) (grownBy_putObj' _ D (.deferred none)) (fun r e => by cases e; exact ⟨_, hK', rfl⟩)
    refine ⟨.int .i64 (s.size : Int), ?_, ret_int (by rw [HF.out]), (hB.setCell (p := ⟨w.heap.size + 1 + 1, 0, none⟩) (by simp; omega) _).trans (belowK_b (w := w) (Nat.le_refl _) _ D _ _ (by omega) hK' rfl rfl)⟩
    simp [results, Try.f14, go_sem, hc5]
  case stop =>
    rintro D c pre W hD hpre ⟨⟨rfl, p, x, rfl, hp, hx, hcr⟩, hB⟩ hK
    rw [plcs_add] at hpre
    have HF := Lib.hid (find_marks_hit nm.data.toList s.data.toList k x.1 (plcs p) (by rw [← Lib.size_eq]; exact hks) hpre hp hx)
    clear hp hpre hx
    gi_wp2
    refine ⟨by simp, .inl ⟨_, _, rfl, run_takeDeferred hK, ?_⟩⟩
    have hc5 := cell_kept hcr (grownBy_putObj' _ D (.deferred none)) (fun r e => by cases e; exact ⟨_, hK, rfl⟩)
    refine ⟨.int .i64 (x.1 : Int), ?_, ret_int (by rw [HF.out]), hB.trans (belowK_b (w := w) (Nat.le_refl _) W D _ _ (by omega) hK rfl rfl)⟩
    simp [results, Try.f14, go_sem, hc5]
end Go.Proofs.Ythmfjnjjkcaalaa
