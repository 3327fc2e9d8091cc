/-
  What the document's 'first' of layer 1 answers, of every list of bytes that isn't empty: how long the sign is, or the longest beginning.
-/
import Derived.Test.YtnbafhaajckdcaaDoorUtfRefFirstB
namespace Go.Proofs.YtnbafhaajckdcaaDoor
open Go.RowKit Go.Lib

/-- how many bytes stand first, and whether they are a sign -/
def seqF (l : List UInt8) : Nat × Bool := if brk l then (begL l, false) else ((decodeL l).2, true)

theorem box_ok {F T : Int} {w w' : World} {e : Ending} (h : RetBox (boxZ F T) w e w') (h0 : 0 ≤ F) (h1 : F < T) (h2 : ¬ (55296 ≤ F ∧ T ≤ 57343)) : OkB w e w' := by
  obtain ⟨f, t, rfl, hp, hw⟩ := h
  unfold boxZ at hp
  rw [if_neg (by omega)] at hp
  injection hp with h3 h4
  subst h3; subst h4
  exact ⟨_, _, rfl, h0, by simp; omega, hw⟩
theorem box_no {F T : Int} {w w' : World} {e : Ending} (h : RetBox (boxZ F T) w e w') (h2 : (55296 ≤ F ∧ T ≤ 57343) ∨ T < F) : NoB w e w' := by
  obtain ⟨f, t, rfl, hp, hw⟩ := h
  unfold boxZ at hp
  rw [if_pos h2] at hp
  injection hp with h3 h4
  subst h3; subst h4
  exact ⟨rfl, hw⟩
theorem box_none {w w' : World} {e : Ending} (h : RetBox (-1, -1) w e w') : NoB w e w' := by
  obtain ⟨f, t, rfl, hp, hw⟩ := h
  injection hp with h3 h4
  subst h3; subst h4
  exact ⟨rfl, hw⟩
theorem box_eq {F T n : Int} {w w' : World} {e : Ending} (h : RetBox (boxZ F T) w e w') (h0 : F = n) (h1 : T = n) (h2 : ¬ (55296 ≤ n ∧ n ≤ 57343)) : EqB n w e w' := by
  subst h0; subst h1
  obtain ⟨f, t, rfl, hp, hw⟩ := h
  unfold boxZ at hp
  rw [if_neg (by omega)] at hp
  injection hp with h3 h4
  subst h3; subst h4
  exact ⟨rfl, hw⟩

theorem seqF_bad (l : List UInt8) (k : Nat) (h1 : decodeN l.length (l.getD 0 0).toNat (l.getD 1 0).toNat (l.getD 2 0).toNat (l.getD 3 0).toNat = (65533, 1))
    (h2 : begN l.length (l.getD 0 0).toNat (l.getD 1 0).toNat (l.getD 2 0).toNat = k) : seqF l = (k, false) := by
  have hb : brk l = true := by rw [brk_iff, decodeL_N]; exact h1
  unfold seqF
  rw [hb, if_pos rfl]
  unfold begL
  rw [h2]
theorem seqF_good (l : List UInt8) (n k : Nat) (hk : 2 ≤ k) (h1 : decodeN l.length (l.getD 0 0).toNat (l.getD 1 0).toNat (l.getD 2 0).toNat (l.getD 3 0).toNat = (n, k)) : seqF l = (k, true) ∧ brk l = false ∧ decodeL l = (n, k) := by
  have hd : decodeL l = (n, k) := by rw [decodeL_N]; exact h1
  have hb : brk l = false := by
    rw [Bool.eq_false_iff]
    intro h
    rw [brk_iff, hd] at h
    have := congrArg Prod.snd h
    simp only at this
    omega
  unfold seqF
  rw [hb, hd]
  exact ⟨rfl, rfl, rfl⟩

theorem cell_same {w w' : World} (h : w'.heap = w.heap) (a : Addr) : w'.cell? a = w.cell? a := by simp [World.cell?, h]

set_option maxRecDepth 100000 in
set_option maxHeartbeats 400000 in
theorem first_low (b0 : Int) (x : Addr) (w : World) (len cap : Nat) (c0 : w.cell? x = some (.int .u8 b0)) (hb0 : b0 < 128) (hl1 : 1 ≤ len) :
    Calls Tryd.prog 27 #[.slice (some x) len cap] w fun e w' => e = .returned (.tuple #[.int .i64 1, .bool true]) ∧ Below w.heap.size w w' := by
  go_enter Tryd.func27, Tryd.ntmps27
  go_wp2
  go_ret2
  exact ⟨rfl, Below.refl _ _⟩

/-- the cells of a list of bytes that isn't empty -/
theorem IsBytes.cell {w : World} {a : Option Addr} {len cap : Nat} {l : List UInt8} (h : IsBytes w (.slice a len cap) l) (hl : 0 < len) :
    ∃ x : Addr, a = some x ∧ ∀ i (hi : i < l.length), w.cell? (x.add i) = some (.int .u8 ((l[i]'hi).toNat : Int)) := by
  rcases h with ⟨hv, rfl⟩ | ⟨x, c, hv, h1, h2, h3⟩
  · injection hv with h4 h5 h6; omega
  · injection hv with h4 h5 h6
    exact ⟨x, h4, h3⟩
theorem IsBytes.cellAt {w : World} {x : Addr} {len cap : Nat} {l : List UInt8} (h : IsBytes w (.slice (some x) len cap) l) (k : Nat) (hk : k < len) :
    w.cell? (x.add k) = some (.int .u8 ((l.getD k 0).toNat : Int)) := by
  have hl := h.cap.1
  obtain ⟨y, hy, hc⟩ := h.cell (by omega)
  injection hy with hy
  subst hy
  rw [hc k (by omega), List.getD_eq_getElem?_getD, List.getElem?_eq_getElem (by omega)]
  rfl
theorem add_pos (x : Addr) (k : Nat) (hk : 0 < k) : x.add k = ⟨x.block, x.off + k, none⟩ := by unfold Addr.add; rw [if_neg (by omega)]

/-- the conversion of the first k bytes -/
theorem IsBytes.convTake {w : World} {x : Addr} {len cap : Nat} {l : List UInt8} (h : IsBytes w (.slice (some x) len cap) l) (k : Nat) (hk : k ≤ len) (hk0 : 0 < k) :
    ∀ w', Below w.heap.size w w' → (convert 49 9 (.slice (some x) k cap)).run Tryd.prog w' = .ok (.string ⟨(l.take k).toArray⟩) w' := by
  intro w' hb
  have hl := h.cap
  have hs : IsBytes w (.slice (some x) k cap) (l.take k) := by
    obtain ⟨y, hy, hc⟩ := h.cell (by omega)
    injection hy with hy
    subst hy
    have e : (l.take k).length = k := by rw [List.length_take]; omega
    refine .inr ⟨x, cap, by rw [e], by rw [e]; omega, ?_, fun i hi => ?_⟩
    · rcases h with ⟨hv, _⟩ | ⟨z, c, hv, _, h2, _⟩
      · cases hv
      · injection hv with h3 h4 h5; subst h5; exact h2
    · rw [List.getElem_take]
      exact hc i (by rw [e] at hi; omega)
  exact hs.conv_kept hb

set_option maxRecDepth 100000 in
set_option maxHeartbeats 2000000 in
theorem first_m2 (l : List UInt8) (x : Addr) (w : World) (len cap : Nat) (h : IsBytes w (.slice (some x) len cap) l) (hm : len ≤ 1099511627776) (hl0 : 1 ≤ len)
    (b0 b1 b2 b3 : Nat) (e0 : (l.getD 0 0).toNat = b0) (e1 : (l.getD 1 0).toNat = b1) (e2 : (l.getD 2 0).toNat = b2) (e3 : (l.getD 3 0).toNat = b3) (hb0 : 192 ≤ b0) (hb0' : b0 < 224) :
    Calls Tryd.prog 27 #[.slice (some x) len cap] w fun e w' => e = .returned (.tuple #[.int .i64 ((seqF l).1 : Int), .bool (seqF l).2]) ∧ Below w.heap.size w w' := by
  have hl := h.cap
  have u1 : b1 < 256 := by rw [← e1]; exact (l.getD 1 0).toNat_lt
  have u2 : b2 < 256 := by rw [← e2]; exact (l.getD 2 0).toNat_lt
  have u3 : b3 < 256 := by rw [← e3]; exact (l.getD 3 0).toNat_lt
  have c0 : w.cell? x = some (.int .u8 (b0 : Int)) := by have := h.cellAt 0 hl0; rwa [e0, show x.add 0 = x by simp [Addr.add]] at this
  have c1 : 1 < len → w.cell? ⟨x.block, x.off + 1, none⟩ = some (.int .u8 (b1 : Int)) := fun hk => by have := h.cellAt 1 hk; rwa [e1, add_pos x 1 (by omega)] at this
  have c2 : 2 < len → w.cell? ⟨x.block, x.off + 2, none⟩ = some (.int .u8 (b2 : Int)) := fun hk => by have := h.cellAt 2 hk; rwa [e2, add_pos x 2 (by omega)] at this
  have c3 : 3 < len → w.cell? ⟨x.block, x.off + 3, none⟩ = some (.int .u8 (b3 : Int)) := fun hk => by have := h.cellAt 3 hk; rwa [e3, add_pos x 3 (by omega)] at this
  have bad : ∀ k : Nat, decodeN len b0 b1 b2 b3 = (65533, 1) → begN len b0 b1 b2 = k → seqF l = (k, false) := fun k h1 h2 => seqF_bad l k (by rw [hl.1, e0, e1, e2, e3]; exact h1) (by rw [hl.1, e0, e1, e2]; exact h2)
  have good : ∀ n k : Nat, 2 ≤ k → decodeN len b0 b1 b2 b3 = (n, k) → seqF l = (k, true) ∧ brk l = false ∧ decodeL l = (n, k) := fun n k hk h1 => seqF_good l n k hk (by rw [hl.1, e0, e1, e2, e3]; exact h1)
  have hne : l ≠ [] := by intro h0; rw [h0] at hl; simp at hl; omega
  by_cases g1 : b0 < 194
  · have L1 : LeastIs w x 1 cap NoB := fun w' hw' => (least2_1 (b0 : Int) (by omega) (by omega) x w' cap (by rw [cell_same hw']; exact c0)).mono fun e w'' hh => box_no hh (by omega)
    have hs := bad 1 (by
      unfold decodeN; repeat' split
      all_goals first | rfl | (exfalso; omega)) (by
      unfold begN; repeat' split
      all_goals first | rfl | (exfalso; omega))
    rw [hs]
    exact first_no0 (b0 : Int) x w len cap c0 (by omega) hl0 hl.2 hm L1
  have L1 : LeastIs w x 1 cap OkB := fun w' hw' => (least2_1 (b0 : Int) (by omega) (by omega) x w' cap (by rw [cell_same hw']; exact c0)).mono fun e w'' hh => box_ok hh (by omega) (by omega) (by omega)
  by_cases n2 : len ≤ 1
  · have hl0' : 1 ≤ len := by omega
    have hs := bad 1 (by
      unfold decodeN; repeat' split
      all_goals first | rfl | (exfalso; omega)) (by
      unfold begN; repeat' split
      all_goals first | rfl | (exfalso; omega))
    rw [hs]
    exact first_end1 (b0 : Int) x w len cap c0 (by omega) hl0' n2 hl.2 L1
  by_cases lo2 : b1 < 128
  · have L2 : LeastIs w x 2 cap NoB := fun w' hw' => (least2_2_lo (b0 : Int) (b1 : Int) (by omega) (by omega) (by omega) (by omega) x w' cap (by rw [cell_same hw']; exact c0) (by rw [cell_same hw']; exact (c1 (by omega)))).mono fun e w'' hh => box_none hh
    have hs := bad 1 (by
      unfold decodeN; repeat' split
      all_goals first | rfl | (exfalso; omega)) (by
      unfold begN; repeat' split
      all_goals first | rfl | (exfalso; omega))
    rw [hs]
    exact first_no1 (b0 : Int) x w len cap c0 (by omega) (by omega) hl.2 hm L1 L2
  by_cases hi2 : 192 ≤ b1
  · have L2 : LeastIs w x 2 cap NoB := fun w' hw' => (least2_2_hi (b0 : Int) (b1 : Int) (by omega) (by omega) (by omega) (by omega) x w' cap (by rw [cell_same hw']; exact c0) (by rw [cell_same hw']; exact (c1 (by omega)))).mono fun e w'' hh => box_none hh
    have hs := bad 1 (by
      unfold decodeN; repeat' split
      all_goals first | rfl | (exfalso; omega)) (by
      unfold begN; repeat' split
      all_goals first | rfl | (exfalso; omega))
    rw [hs]
    exact first_no1 (b0 : Int) x w len cap c0 (by omega) (by omega) hl.2 hm L1 L2
  obtain ⟨hs, hk, hd⟩ := good (b0 % 32 * 64 + b1 % 64) 2 (by omega) (by
    unfold decodeN; repeat' split
    all_goals first | rfl | (exfalso; omega))
  have hen := enc_dec l hne hk
  rw [hd] at hen
  have L2 : LeastIs w x 2 cap (EqB ((b0 % 32 * 64 + b1 % 64 : Nat) : Int)) := fun w' hw' => (least2_2 (b0 : Int) (b1 : Int) (by omega) (by omega) (by omega) (by omega) x w' cap (by rw [cell_same hw']; exact c0) (by rw [cell_same hw']; exact (c1 (by omega)))).mono fun e w'' hh => box_eq hh (by omega) (by omega) (by omega)
  rw [hs]
  exact first_eq2 (b0 : Int) x w len cap c0 (by omega) (by omega) hl.2 hm L1 _ (by omega) _ L2 (Lib.hid (by rw [hen])) (h.convTake 2 (by omega) (by omega))

set_option maxRecDepth 100000 in
set_option maxHeartbeats 2000000 in
theorem first_m3 (l : List UInt8) (x : Addr) (w : World) (len cap : Nat) (h : IsBytes w (.slice (some x) len cap) l) (hm : len ≤ 1099511627776) (hl0 : 1 ≤ len)
    (b0 b1 b2 b3 : Nat) (e0 : (l.getD 0 0).toNat = b0) (e1 : (l.getD 1 0).toNat = b1) (e2 : (l.getD 2 0).toNat = b2) (e3 : (l.getD 3 0).toNat = b3) (hb0 : 224 ≤ b0) (hb0' : b0 < 240) :
    Calls Tryd.prog 27 #[.slice (some x) len cap] w fun e w' => e = .returned (.tuple #[.int .i64 ((seqF l).1 : Int), .bool (seqF l).2]) ∧ Below w.heap.size w w' := by
  have hl := h.cap
  have u1 : b1 < 256 := by rw [← e1]; exact (l.getD 1 0).toNat_lt
  have u2 : b2 < 256 := by rw [← e2]; exact (l.getD 2 0).toNat_lt
  have u3 : b3 < 256 := by rw [← e3]; exact (l.getD 3 0).toNat_lt
  have c0 : w.cell? x = some (.int .u8 (b0 : Int)) := by have := h.cellAt 0 hl0; rwa [e0, show x.add 0 = x by simp [Addr.add]] at this
  have c1 : 1 < len → w.cell? ⟨x.block, x.off + 1, none⟩ = some (.int .u8 (b1 : Int)) := fun hk => by have := h.cellAt 1 hk; rwa [e1, add_pos x 1 (by omega)] at this
  have c2 : 2 < len → w.cell? ⟨x.block, x.off + 2, none⟩ = some (.int .u8 (b2 : Int)) := fun hk => by have := h.cellAt 2 hk; rwa [e2, add_pos x 2 (by omega)] at this
  have c3 : 3 < len → w.cell? ⟨x.block, x.off + 3, none⟩ = some (.int .u8 (b3 : Int)) := fun hk => by have := h.cellAt 3 hk; rwa [e3, add_pos x 3 (by omega)] at this
  have bad : ∀ k : Nat, decodeN len b0 b1 b2 b3 = (65533, 1) → begN len b0 b1 b2 = k → seqF l = (k, false) := fun k h1 h2 => seqF_bad l k (by rw [hl.1, e0, e1, e2, e3]; exact h1) (by rw [hl.1, e0, e1, e2]; exact h2)
  have good : ∀ n k : Nat, 2 ≤ k → decodeN len b0 b1 b2 b3 = (n, k) → seqF l = (k, true) ∧ brk l = false ∧ decodeL l = (n, k) := fun n k hk h1 => seqF_good l n k hk (by rw [hl.1, e0, e1, e2, e3]; exact h1)
  have hne : l ≠ [] := by intro h0; rw [h0] at hl; simp at hl; omega
  have L1 : LeastIs w x 1 cap OkB := fun w' hw' => (least3_1 (b0 : Int) (by omega) (by omega) x w' cap (by rw [cell_same hw']; exact c0)).mono fun e w'' hh => box_ok hh (by omega) (by omega) (by omega)
  by_cases n2 : len ≤ 1
  · have hl0' : 1 ≤ len := by omega
    have hs := bad 1 (by
      unfold decodeN; repeat' split
      all_goals first | rfl | (exfalso; omega)) (by
      unfold begN; repeat' split
      all_goals first | rfl | (exfalso; omega))
    rw [hs]
    exact first_end1 (b0 : Int) x w len cap c0 (by omega) hl0' n2 hl.2 L1
  by_cases lo2 : b1 < 128
  · have L2 : LeastIs w x 2 cap NoB := fun w' hw' => (least3_2_lo (b0 : Int) (b1 : Int) (by omega) (by omega) (by omega) (by omega) x w' cap (by rw [cell_same hw']; exact c0) (by rw [cell_same hw']; exact (c1 (by omega)))).mono fun e w'' hh => box_none hh
    have hs := bad 1 (by
      unfold decodeN; repeat' split
      all_goals first | rfl | (exfalso; omega)) (by
      unfold begN; repeat' split
      all_goals first | rfl | (exfalso; omega))
    rw [hs]
    exact first_no1 (b0 : Int) x w len cap c0 (by omega) (by omega) hl.2 hm L1 L2
  by_cases hi2 : 192 ≤ b1
  · have L2 : LeastIs w x 2 cap NoB := fun w' hw' => (least3_2_hi (b0 : Int) (b1 : Int) (by omega) (by omega) (by omega) (by omega) x w' cap (by rw [cell_same hw']; exact c0) (by rw [cell_same hw']; exact (c1 (by omega)))).mono fun e w'' hh => box_none hh
    have hs := bad 1 (by
      unfold decodeN; repeat' split
      all_goals first | rfl | (exfalso; omega)) (by
      unfold begN; repeat' split
      all_goals first | rfl | (exfalso; omega))
    rw [hs]
    exact first_no1 (b0 : Int) x w len cap c0 (by omega) (by omega) hl.2 hm L1 L2
  by_cases x2 : (55296 ≤ max (64 * (64 * ((b0 : Int) - 224) + (b1 : Int) - 128)) 2048 ∧ min (64 * (64 * ((b0 : Int) - 224) + (b1 : Int) - 128) + 63) 65535 ≤ 57343) ∨ min (64 * (64 * ((b0 : Int) - 224) + (b1 : Int) - 128) + 63) 65535 < max (64 * (64 * ((b0 : Int) - 224) + (b1 : Int) - 128)) 2048
  · have L2 : LeastIs w x 2 cap NoB := fun w' hw' => (least3_2 (b0 : Int) (b1 : Int) (by omega) (by omega) (by omega) (by omega) x w' cap (by rw [cell_same hw']; exact c0) (by rw [cell_same hw']; exact (c1 (by omega)))).mono fun e w'' hh => box_no hh x2
    have hs := bad 1 (by
      unfold decodeN; repeat' split
      all_goals first | rfl | (exfalso; omega)) (by
      unfold begN; repeat' split
      all_goals first | rfl | (exfalso; omega))
    rw [hs]
    exact first_no1 (b0 : Int) x w len cap c0 (by omega) (by omega) hl.2 hm L1 L2
  have L2 : LeastIs w x 2 cap OkB := fun w' hw' => (least3_2 (b0 : Int) (b1 : Int) (by omega) (by omega) (by omega) (by omega) x w' cap (by rw [cell_same hw']; exact c0) (by rw [cell_same hw']; exact (c1 (by omega)))).mono fun e w'' hh => box_ok hh (by omega) (by omega) (by omega)
  by_cases n3 : len ≤ 2
  · have hl0' : 2 ≤ len := by omega
    have hs := bad 2 (by
      unfold decodeN; repeat' split
      all_goals first | rfl | (exfalso; omega)) (by
      unfold begN; repeat' split
      all_goals first | rfl | (exfalso; omega))
    rw [hs]
    exact first_end2 (b0 : Int) x w len cap c0 (by omega) hl0' n3 hl.2 L1 L2
  by_cases lo3 : b2 < 128
  · have L3 : LeastIs w x 3 cap NoB := fun w' hw' => (least3_3_lo (b0 : Int) (b1 : Int) (b2 : Int) (by omega) (by omega) (by omega) (by omega) (by omega) (by omega) x w' cap (by rw [cell_same hw']; exact c0) (by rw [cell_same hw']; exact (c1 (by omega))) (by rw [cell_same hw']; exact (c2 (by omega)))).mono fun e w'' hh => box_none hh
    have hs := bad 2 (by
      unfold decodeN; repeat' split
      all_goals first | rfl | (exfalso; omega)) (by
      unfold begN; repeat' split
      all_goals first | rfl | (exfalso; omega))
    rw [hs]
    exact first_no2 (b0 : Int) x w len cap c0 (by omega) (by omega) hl.2 hm L1 L2 L3
  by_cases hi3 : 192 ≤ b2
  · have L3 : LeastIs w x 3 cap NoB := fun w' hw' => (least3_3_hi (b0 : Int) (b1 : Int) (b2 : Int) (by omega) (by omega) (by omega) (by omega) (by omega) (by omega) x w' cap (by rw [cell_same hw']; exact c0) (by rw [cell_same hw']; exact (c1 (by omega))) (by rw [cell_same hw']; exact (c2 (by omega)))).mono fun e w'' hh => box_none hh
    have hs := bad 2 (by
      unfold decodeN; repeat' split
      all_goals first | rfl | (exfalso; omega)) (by
      unfold begN; repeat' split
      all_goals first | rfl | (exfalso; omega))
    rw [hs]
    exact first_no2 (b0 : Int) x w len cap c0 (by omega) (by omega) hl.2 hm L1 L2 L3
  obtain ⟨hs, hk, hd⟩ := good (b0 % 16 * 4096 + b1 % 64 * 64 + b2 % 64) 3 (by omega) (by
    unfold decodeN; repeat' split
    all_goals first | rfl | (exfalso; omega))
  have hen := enc_dec l hne hk
  rw [hd] at hen
  have L3 : LeastIs w x 3 cap (EqB ((b0 % 16 * 4096 + b1 % 64 * 64 + b2 % 64 : Nat) : Int)) := fun w' hw' => (least3_3 (b0 : Int) (b1 : Int) (b2 : Int) (by omega) (by omega) (by omega) (by omega) (by omega) (by omega) x w' cap (by rw [cell_same hw']; exact c0) (by rw [cell_same hw']; exact (c1 (by omega))) (by rw [cell_same hw']; exact (c2 (by omega)))).mono fun e w'' hh => box_eq hh (by omega) (by omega) (by omega)
  rw [hs]
  exact first_eq3 (b0 : Int) x w len cap c0 (by omega) (by omega) hl.2 hm L1 L2 _ (by omega) _ L3 (Lib.hid (by rw [hen])) (h.convTake 3 (by omega) (by omega))

set_option maxRecDepth 100000 in
set_option maxHeartbeats 2000000 in
theorem first_m4 (l : List UInt8) (x : Addr) (w : World) (len cap : Nat) (h : IsBytes w (.slice (some x) len cap) l) (hm : len ≤ 1099511627776) (hl0 : 1 ≤ len)
    (b0 b1 b2 b3 : Nat) (e0 : (l.getD 0 0).toNat = b0) (e1 : (l.getD 1 0).toNat = b1) (e2 : (l.getD 2 0).toNat = b2) (e3 : (l.getD 3 0).toNat = b3) (hb0 : 240 ≤ b0) (hb0' : b0 < 248) :
    Calls Tryd.prog 27 #[.slice (some x) len cap] w fun e w' => e = .returned (.tuple #[.int .i64 ((seqF l).1 : Int), .bool (seqF l).2]) ∧ Below w.heap.size w w' := by
  have hl := h.cap
  have u1 : b1 < 256 := by rw [← e1]; exact (l.getD 1 0).toNat_lt
  have u2 : b2 < 256 := by rw [← e2]; exact (l.getD 2 0).toNat_lt
  have u3 : b3 < 256 := by rw [← e3]; exact (l.getD 3 0).toNat_lt
  have c0 : w.cell? x = some (.int .u8 (b0 : Int)) := by have := h.cellAt 0 hl0; rwa [e0, show x.add 0 = x by simp [Addr.add]] at this
  have c1 : 1 < len → w.cell? ⟨x.block, x.off + 1, none⟩ = some (.int .u8 (b1 : Int)) := fun hk => by have := h.cellAt 1 hk; rwa [e1, add_pos x 1 (by omega)] at this
  have c2 : 2 < len → w.cell? ⟨x.block, x.off + 2, none⟩ = some (.int .u8 (b2 : Int)) := fun hk => by have := h.cellAt 2 hk; rwa [e2, add_pos x 2 (by omega)] at this
  have c3 : 3 < len → w.cell? ⟨x.block, x.off + 3, none⟩ = some (.int .u8 (b3 : Int)) := fun hk => by have := h.cellAt 3 hk; rwa [e3, add_pos x 3 (by omega)] at this
  have bad : ∀ k : Nat, decodeN len b0 b1 b2 b3 = (65533, 1) → begN len b0 b1 b2 = k → seqF l = (k, false) := fun k h1 h2 => seqF_bad l k (by rw [hl.1, e0, e1, e2, e3]; exact h1) (by rw [hl.1, e0, e1, e2]; exact h2)
  have good : ∀ n k : Nat, 2 ≤ k → decodeN len b0 b1 b2 b3 = (n, k) → seqF l = (k, true) ∧ brk l = false ∧ decodeL l = (n, k) := fun n k hk h1 => seqF_good l n k hk (by rw [hl.1, e0, e1, e2, e3]; exact h1)
  have hne : l ≠ [] := by intro h0; rw [h0] at hl; simp at hl; omega
  by_cases g1 : 244 < b0
  · have L1 : LeastIs w x 1 cap NoB := fun w' hw' => (least4_1 (b0 : Int) (by omega) (by omega) x w' cap (by rw [cell_same hw']; exact c0)).mono fun e w'' hh => box_no hh (by omega)
    have hs := bad 1 (by
      unfold decodeN; repeat' split
      all_goals first | rfl | (exfalso; omega)) (by
      unfold begN; repeat' split
      all_goals first | rfl | (exfalso; omega))
    rw [hs]
    exact first_no0 (b0 : Int) x w len cap c0 (by omega) hl0 hl.2 hm L1
  have L1 : LeastIs w x 1 cap OkB := fun w' hw' => (least4_1 (b0 : Int) (by omega) (by omega) x w' cap (by rw [cell_same hw']; exact c0)).mono fun e w'' hh => box_ok hh (by omega) (by omega) (by omega)
  by_cases n2 : len ≤ 1
  · have hl0' : 1 ≤ len := by omega
    have hs := bad 1 (by
      unfold decodeN; repeat' split
      all_goals first | rfl | (exfalso; omega)) (by
      unfold begN; repeat' split
      all_goals first | rfl | (exfalso; omega))
    rw [hs]
    exact first_end1 (b0 : Int) x w len cap c0 (by omega) hl0' n2 hl.2 L1
  by_cases lo2 : b1 < 128
  · have L2 : LeastIs w x 2 cap NoB := fun w' hw' => (least4_2_lo (b0 : Int) (b1 : Int) (by omega) (by omega) (by omega) (by omega) x w' cap (by rw [cell_same hw']; exact c0) (by rw [cell_same hw']; exact (c1 (by omega)))).mono fun e w'' hh => box_none hh
    have hs := bad 1 (by
      unfold decodeN; repeat' split
      all_goals first | rfl | (exfalso; omega)) (by
      unfold begN; repeat' split
      all_goals first | rfl | (exfalso; omega))
    rw [hs]
    exact first_no1 (b0 : Int) x w len cap c0 (by omega) (by omega) hl.2 hm L1 L2
  by_cases hi2 : 192 ≤ b1
  · have L2 : LeastIs w x 2 cap NoB := fun w' hw' => (least4_2_hi (b0 : Int) (b1 : Int) (by omega) (by omega) (by omega) (by omega) x w' cap (by rw [cell_same hw']; exact c0) (by rw [cell_same hw']; exact (c1 (by omega)))).mono fun e w'' hh => box_none hh
    have hs := bad 1 (by
      unfold decodeN; repeat' split
      all_goals first | rfl | (exfalso; omega)) (by
      unfold begN; repeat' split
      all_goals first | rfl | (exfalso; omega))
    rw [hs]
    exact first_no1 (b0 : Int) x w len cap c0 (by omega) (by omega) hl.2 hm L1 L2
  by_cases x2 : (55296 ≤ max (64 * (64 * (64 * ((b0 : Int) - 240) + (b1 : Int) - 128))) 65536 ∧ min (64 * (64 * (64 * ((b0 : Int) - 240) + (b1 : Int) - 128) + 63) + 63) 1114111 ≤ 57343) ∨ min (64 * (64 * (64 * ((b0 : Int) - 240) + (b1 : Int) - 128) + 63) + 63) 1114111 < max (64 * (64 * (64 * ((b0 : Int) - 240) + (b1 : Int) - 128))) 65536
  · have L2 : LeastIs w x 2 cap NoB := fun w' hw' => (least4_2 (b0 : Int) (b1 : Int) (by omega) (by omega) (by omega) (by omega) x w' cap (by rw [cell_same hw']; exact c0) (by rw [cell_same hw']; exact (c1 (by omega)))).mono fun e w'' hh => box_no hh x2
    have hs := bad 1 (by
      unfold decodeN; repeat' split
      all_goals first | rfl | (exfalso; omega)) (by
      unfold begN; repeat' split
      all_goals first | rfl | (exfalso; omega))
    rw [hs]
    exact first_no1 (b0 : Int) x w len cap c0 (by omega) (by omega) hl.2 hm L1 L2
  have L2 : LeastIs w x 2 cap OkB := fun w' hw' => (least4_2 (b0 : Int) (b1 : Int) (by omega) (by omega) (by omega) (by omega) x w' cap (by rw [cell_same hw']; exact c0) (by rw [cell_same hw']; exact (c1 (by omega)))).mono fun e w'' hh => box_ok hh (by omega) (by omega) (by omega)
  by_cases n3 : len ≤ 2
  · have hl0' : 2 ≤ len := by omega
    have hs := bad 2 (by
      unfold decodeN; repeat' split
      all_goals first | rfl | (exfalso; omega)) (by
      unfold begN; repeat' split
      all_goals first | rfl | (exfalso; omega))
    rw [hs]
    exact first_end2 (b0 : Int) x w len cap c0 (by omega) hl0' n3 hl.2 L1 L2
  by_cases lo3 : b2 < 128
  · have L3 : LeastIs w x 3 cap NoB := fun w' hw' => (least4_3_lo (b0 : Int) (b1 : Int) (b2 : Int) (by omega) (by omega) (by omega) (by omega) (by omega) (by omega) x w' cap (by rw [cell_same hw']; exact c0) (by rw [cell_same hw']; exact (c1 (by omega))) (by rw [cell_same hw']; exact (c2 (by omega)))).mono fun e w'' hh => box_none hh
    have hs := bad 2 (by
      unfold decodeN; repeat' split
      all_goals first | rfl | (exfalso; omega)) (by
      unfold begN; repeat' split
      all_goals first | rfl | (exfalso; omega))
    rw [hs]
    exact first_no2 (b0 : Int) x w len cap c0 (by omega) (by omega) hl.2 hm L1 L2 L3
  by_cases hi3 : 192 ≤ b2
  · have L3 : LeastIs w x 3 cap NoB := fun w' hw' => (least4_3_hi (b0 : Int) (b1 : Int) (b2 : Int) (by omega) (by omega) (by omega) (by omega) (by omega) (by omega) x w' cap (by rw [cell_same hw']; exact c0) (by rw [cell_same hw']; exact (c1 (by omega))) (by rw [cell_same hw']; exact (c2 (by omega)))).mono fun e w'' hh => box_none hh
    have hs := bad 2 (by
      unfold decodeN; repeat' split
      all_goals first | rfl | (exfalso; omega)) (by
      unfold begN; repeat' split
      all_goals first | rfl | (exfalso; omega))
    rw [hs]
    exact first_no2 (b0 : Int) x w len cap c0 (by omega) (by omega) hl.2 hm L1 L2 L3
  have L3 : LeastIs w x 3 cap OkB := fun w' hw' => (least4_3 (b0 : Int) (b1 : Int) (b2 : Int) (by omega) (by omega) (by omega) (by omega) (by omega) (by omega) x w' cap (by rw [cell_same hw']; exact c0) (by rw [cell_same hw']; exact (c1 (by omega))) (by rw [cell_same hw']; exact (c2 (by omega)))).mono fun e w'' hh => box_ok hh (by omega) (by omega) (by omega)
  by_cases n4 : len ≤ 3
  · have hl0' : 3 ≤ len := by omega
    have hs := bad 3 (by
      unfold decodeN; repeat' split
      all_goals first | rfl | (exfalso; omega)) (by
      unfold begN; repeat' split
      all_goals first | rfl | (exfalso; omega))
    rw [hs]
    exact first_end3 (b0 : Int) x w len cap c0 (by omega) hl0' n4 hl.2 L1 L2 L3
  by_cases lo4 : b3 < 128
  · have L4 : LeastIs w x 4 cap NoB := fun w' hw' => (least4_4_lo (b0 : Int) (b1 : Int) (b2 : Int) (b3 : Int) (by omega) (by omega) (by omega) (by omega) (by omega) (by omega) (by omega) (by omega) x w' cap (by rw [cell_same hw']; exact c0) (by rw [cell_same hw']; exact (c1 (by omega))) (by rw [cell_same hw']; exact (c2 (by omega))) (by rw [cell_same hw']; exact (c3 (by omega)))).mono fun e w'' hh => box_none hh
    have hs := bad 3 (by
      unfold decodeN; repeat' split
      all_goals first | rfl | (exfalso; omega)) (by
      unfold begN; repeat' split
      all_goals first | rfl | (exfalso; omega))
    rw [hs]
    exact first_no3 (b0 : Int) x w len cap c0 (by omega) (by omega) hl.2 hm L1 L2 L3 L4
  by_cases hi4 : 192 ≤ b3
  · have L4 : LeastIs w x 4 cap NoB := fun w' hw' => (least4_4_hi (b0 : Int) (b1 : Int) (b2 : Int) (b3 : Int) (by omega) (by omega) (by omega) (by omega) (by omega) (by omega) (by omega) (by omega) x w' cap (by rw [cell_same hw']; exact c0) (by rw [cell_same hw']; exact (c1 (by omega))) (by rw [cell_same hw']; exact (c2 (by omega))) (by rw [cell_same hw']; exact (c3 (by omega)))).mono fun e w'' hh => box_none hh
    have hs := bad 3 (by
      unfold decodeN; repeat' split
      all_goals first | rfl | (exfalso; omega)) (by
      unfold begN; repeat' split
      all_goals first | rfl | (exfalso; omega))
    rw [hs]
    exact first_no3 (b0 : Int) x w len cap c0 (by omega) (by omega) hl.2 hm L1 L2 L3 L4
  obtain ⟨hs, hk, hd⟩ := good (b0 % 8 * 262144 + b1 % 64 * 4096 + b2 % 64 * 64 + b3 % 64) 4 (by omega) (by
    unfold decodeN; repeat' split
    all_goals first | rfl | (exfalso; omega))
  have hen := enc_dec l hne hk
  rw [hd] at hen
  have L4 : LeastIs w x 4 cap (EqB ((b0 % 8 * 262144 + b1 % 64 * 4096 + b2 % 64 * 64 + b3 % 64 : Nat) : Int)) := fun w' hw' => (least4_4 (b0 : Int) (b1 : Int) (b2 : Int) (b3 : Int) (by omega) (by omega) (by omega) (by omega) (by omega) (by omega) (by omega) (by omega) x w' cap (by rw [cell_same hw']; exact c0) (by rw [cell_same hw']; exact (c1 (by omega))) (by rw [cell_same hw']; exact (c2 (by omega))) (by rw [cell_same hw']; exact (c3 (by omega)))).mono fun e w'' hh => box_eq hh (by omega) (by omega) (by omega)
  rw [hs]
  exact first_eq4 (b0 : Int) x w len cap c0 (by omega) (by omega) hl.2 hm L1 L2 L3 _ (by omega) _ L4 (Lib.hid (by rw [hen])) (h.convTake 4 (by omega) (by omega))

/-- first: how many bytes stand first, and whether they are a sign -/
theorem first_any (l : List UInt8) (a : Option Addr) (w : World) (len cap : Nat) (h : IsBytes w (.slice a len cap) l) (hm : len ≤ 1099511627776) (hl0 : 1 ≤ len) :
    Calls Tryd.prog 27 #[.slice a len cap] w fun e w' => e = .returned (.tuple #[.int .i64 ((seqF l).1 : Int), .bool (seqF l).2]) ∧ Below w.heap.size w w' := by
  obtain ⟨x, rfl, -⟩ := h.cell (by omega)
  have hl := h.cap
  have h0 := (l.getD 0 0).toNat_lt
  have c0 : w.cell? x = some (.int .u8 ((l.getD 0 0).toNat : Int)) := by have := h.cellAt 0 (by omega); rwa [show x.add 0 = x by simp [Addr.add]] at this
  by_cases g2 : 192 ≤ (l.getD 0 0).toNat ∧ (l.getD 0 0).toNat < 224
  · exact first_m2 l x w len cap h hm hl0 _ _ _ _ rfl rfl rfl rfl g2.1 g2.2
  by_cases g3 : 224 ≤ (l.getD 0 0).toNat ∧ (l.getD 0 0).toNat < 240
  · exact first_m3 l x w len cap h hm hl0 _ _ _ _ rfl rfl rfl rfl g3.1 g3.2
  by_cases g4 : 240 ≤ (l.getD 0 0).toNat ∧ (l.getD 0 0).toNat < 248
  · exact first_m4 l x w len cap h hm hl0 _ _ _ _ rfl rfl rfl rfl g4.1 g4.2
  by_cases g0 : (l.getD 0 0).toNat < 128
  · have hd : decodeL l = ((l.getD 0 0).toNat, 1) := by rw [decodeL_N]; exact decodeN_ascii _ _ _ _ _ g0
    have hb : brk l = false := by
      rw [Bool.eq_false_iff]
      intro hb
      rw [brk_iff, hd] at hb
      have := congrArg Prod.fst hb
      simp only at this
      omega
    have hs : seqF l = (1, true) := by unfold seqF; rw [hb, hd]; rfl
    rw [hs]
    exact first_low _ x w len cap c0 (by omega) hl0
  · have hd : seqF l = (1, false) := seqF_bad l 1 (decodeN_bad _ _ _ _ _ (by omega)) (by
      unfold begN; repeat' split
      all_goals first | rfl | (exfalso; omega))
    rw [hd]
    by_cases g5 : (l.getD 0 0).toNat < 192
    · exact first_no0 _ x w len cap c0 (by omega) hl0 hl.2 hm (fun w' hw' => (least_none_lo ((l.getD 0 0).toNat : Int) (by omega) (by omega) x w' cap (by rw [cell_same hw']; exact c0)).mono fun e w'' hh => box_none hh)
    · exact first_no0 _ x w len cap c0 (by omega) hl0 hl.2 hm (fun w' hw' => (least_none_hi ((l.getD 0 0).toNat : Int) (by omega) (by omega) x w' cap (by rw [cell_same hw']; exact c0)).mono fun e w'' hh => box_none hh)

end Go.Proofs.YtnbafhaajckdcaaDoor
