/-
  The program's flow: what is done with a byte, with a text; a new one; what is told.
-/
import Derived.Test.YtappdjhhaohejaaFloRun
import Derived.Test.YtappdjhhaohejaaP1
namespace Go.Proofs.Ytappdjhhaohejaa
open Go.RowKit Go.Lib

/-- what is done with a byte: the method -/
def deedN (keep : Bool) (c : UInt8) : Nat :=
  if c = 0 then 49
  else if c = 10 ∨ c = 13 then (if keep = true then 50 else 51)
  else if c = 9 ∨ c = 12 ∨ c = 32 then (if keep = true then 52 else 51)
  else 53
theorem u8_neq (c : UInt8) (q : Int) (hq : (c.toNat : Int) = q) (k : Nat) (hk : k < 256) (h : c ≠ UInt8.ofNat k) : (q == (k : Int)) = false := by
  rw [beq_eq_false_iff_ne]
  intro e
  exact h (u8_eq c k hk (by omega))
set_option maxRecDepth 100000 in
set_option maxHeartbeats 2000000 in
theorem deed_any (keep : Bool) (c : UInt8) (q : Int) (w : World) (hq : (c.toNat : Int) = q) :
    Calls Try.prog 46 #[.int .u8 q, .bool keep] w fun e w' => e = .returned (.func (.func (deedN keep c)) #[] #[]) ∧ w' = w := by
  by_cases h0 : c = 0
  · subst h0
    obtain rfl : q = 0 := by rw [← hq]; rfl
    have e : deedN keep 0 = 49 := rfl
    rw [e]
    clear hq e
    go_enter Try.func46, Try.ntmps46
    go_wp2
    go_ret
    exact ⟨rfl, rfl⟩
  by_cases h1 : c = 10 ∨ c = 13
  · rcases h1 with rfl | rfl
    all_goals
      subst hq
      simp only [show (((10 : UInt8).toNat : Nat) : Int) = 10 from rfl, show (((13 : UInt8).toNat : Nat) : Int) = 13 from rfl]
      cases keep
      all_goals
        simp only [show deedN false 10 = 51 from rfl, show deedN false 13 = 51 from rfl, show deedN true 10 = 50 from rfl, show deedN true 13 = 50 from rfl]
        clear h0
        go_enter Try.func46, Try.ntmps46
        go_wp2
        go_ret
        exact ⟨rfl, rfl⟩
  by_cases h2 : c = 9 ∨ c = 12 ∨ c = 32
  · rcases h2 with rfl | rfl | rfl
    all_goals
      subst hq
      simp only [show (((9 : UInt8).toNat : Nat) : Int) = 9 from rfl, show (((12 : UInt8).toNat : Nat) : Int) = 12 from rfl, show (((32 : UInt8).toNat : Nat) : Int) = 32 from rfl]
      cases keep
      all_goals
        simp only [show deedN false 9 = 51 from rfl, show deedN false 12 = 51 from rfl, show deedN false 32 = 51 from rfl, show deedN true 9 = 52 from rfl, show deedN true 12 = 52 from rfl, show deedN true 32 = 52 from rfl]
        clear h0 h1
        go_enter Try.func46, Try.ntmps46
        go_wp2
        go_ret
        exact ⟨rfl, rfl⟩
  have e : deedN keep c = 53 := by unfold deedN; rw [if_neg h0, if_neg h1, if_neg h2]
  rw [e]
  have b0 := u8_neq c q hq 0 (by decide) h0
  have b9 := u8_neq c q hq 9 (by decide) (fun x => h2 (.inl x))
  have b10 := u8_neq c q hq 10 (by decide) (fun x => h1 (.inl x))
  have b12 := u8_neq c q hq 12 (by decide) (fun x => h2 (.inr (.inl x)))
  have b13 := u8_neq c q hq 13 (by decide) (fun x => h1 (.inr x))
  have b32 := u8_neq c q hq 32 (by decide) (fun x => h2 (.inr (.inr x)))
  clear hq e h0 h1 h2
  go_enter Try.func46, Try.ntmps46
  go_wp2
  go_ret
  exact ⟨rfl, rfl⟩

/-- what a deed leaves -/
def Did (w : World) (b : Nat) (v1 v2 : Value) (f : FloP) (e : Ending) (w' : World) : Prop :=
  e = .returned (.tuple #[]) ∧ ∃ p' v1' v2', FloX w' b p' v1' f.ends v2' f.told f.blanks ∧ Moves (Foot b v1 v2) (Foot b v1' v2') w w'

set_option maxRecDepth 100000 in
set_option maxHeartbeats 2000000 in
theorem passF {w : World} {b : Nat} {p v1 : Value} {n : Nat} {v2 : Value} {t l : Txt} (h : FloX w b p v1 n v2 t l) (q : Int) :
    Calls Try.prog 49 #[.pointer (some ⟨b, 0, none⟩), .int .u8 q] w (Did w b v1 v2 ⟨t, n, l⟩) := by
  have H := Lib.hid h
  clear h
  go_enter Try.func49, Try.ntmps49
  go_wp2
  refine bodyPost_end (results_none rfl _ _ _) rfl ?_
  exact ⟨rfl, _, _, _, H.out, Moves.refl _ _⟩
set_option maxRecDepth 100000 in
set_option maxHeartbeats 2000000 in
theorem endF {w : World} {b : Nat} {p v1 : Value} {n : Nat} {v2 : Value} {t l : Txt} (h : FloX w b p v1 n v2 t l) (hn : n ≤ 2147483648) (q : Int) :
    Calls Try.prog 50 #[.pointer (some ⟨b, 0, none⟩), .int .u8 q] w (Did w b v1 v2 ⟨t, n + 1, []⟩) := by
  have C := Lib.hid (lineF_any h hn)
  clear h
  go_enter Try.func50, Try.ntmps50
  go_wp2_with (go_at_call 43; refine C.out.mono ?_; rintro e w' ⟨rfl, v2', x1, x2⟩; have X1 := Lib.hid x1; have X2 := Lib.hid x2; clear x1 x2)
  refine bodyPost_end (results_none rfl _ _ _) rfl ?_
  exact ⟨rfl, _, _, _, X1.out, X2.out⟩
set_option maxRecDepth 100000 in
set_option maxHeartbeats 2000000 in
theorem holdF {w : World} {b : Nat} {p v1 : Value} {n : Nat} {v2 : Value} {t l : Txt} (h : FloX w b p v1 n v2 t l) (hl : l.length ≤ 2147483648) (c : UInt8) (q : Int) (hq : (c.toNat : Int) = q) :
    Calls Try.prog 52 #[.pointer (some ⟨b, 0, none⟩), .int .u8 q] w (Did w b v1 v2 ⟨t, n, l ++ [c]⟩) := by
  obtain ⟨i0, hi, hz0, hz1, hz2⟩ := info_parts infoByteF
  have HQ := Lib.hid (one_byteF c q hq)
  have H := Lib.hid h
  obtain ⟨c0, c1, c2, c3⟩ := h.cells
  clear h hq c0 c1 c2
  go_enter Try.func52, Try.ntmps52
  go_wp2_with (at_builtin; refine wpList_append_own_at _ rfl _ _ 39 rfl 0 5 i0 (.int .u8 0) 1 1 Try.underlying39 hi hz0 hz1 hz2 rfl (by decide) _ _ _ rfl (H.out.blanks.alloc _) ⟨w.heap.size, 0, none⟩ 1 1 [.int .u8 q] rfl rfl (cell_one_new _ _ _) ?c2 ?c3 ?c4 (Nat.zero_le _) ?_)
  case c2 => intro u hu; simp at hu; subst hu; rfl
  case c3 => unfold maxLen; omega
  case c4 => omega
  intro v' w2 hown hgrow _ hloc
  have hG : w.grownBy w2 v2.ownBlock := (World.grownBy_alloc w _ _).trans hgrow
  have hL : ∀ k, v'.ownBlock = some k → v2.ownBlock = some k ∨ w.heap.size ≤ k := fun k e => by
    rcases hloc with x | x
    · exact .inl (by rw [← x, e])
    · rw [e] at x; injection x with x; exact .inr (by rw [x]; simp)
  have hO : w2.ownsRow 0 5 1 v' (l ++ [c]).length (Lib.byteCells (l ++ [c])) := by
    rw [List.length_append, Lib.byteCells_append, HQ.out]; exact hown
  obtain ⟨x1, x2⟩ := H.out.grow2 (l' := l ++ [c]) hG hO hL
  have X1 := Lib.hid x1
  have X2 := Lib.hid x2
  have hb2 : w2.heap[b]? = w.heap[b]? := hG.block b H.out.ltb (fun e => H.out.ne2 e.symm)
  have d1 : w2.cell? ⟨b, 3, none⟩ = some v2 := by rw [Lib.cell_of_heap (hb2.trans H.out.blk)]; rfl
  have f1 : w2.frozen? ⟨b, 3, none⟩ = false := Lib.frozen_of_heap (hb2.trans H.out.blk) 3
  clear hown hgrow hloc hG hL hO x1 x2 hb2
  obtain ⟨a, m, cap, e⟩ : ∃ a m cap, v' = .slice a m cap := by
    rcases X1.out.form2 with ⟨e, _⟩ | ⟨g, cap, e, _⟩ <;> exact ⟨_, _, _, e⟩
  subst e
  go_wp2
  refine bodyPost_end (results_none rfl _ _ _) rfl ?_
  exact ⟨rfl, _, _, _, X1.out, X2.out⟩
set_option maxRecDepth 100000 in
set_option maxHeartbeats 2000000 in
theorem foldF {w : World} {b : Nat} {p v1 : Value} {n : Nat} {v2 : Value} {t l : Txt} (h : FloX w b p v1 n v2 t l) (q : Int) :
    Calls Try.prog 51 #[.pointer (some ⟨b, 0, none⟩), .int .u8 q] w (Did w b v1 v2 (if n = 0 ∧ l = [] then ⟨t, 0, [32]⟩ else ⟨t, n, l⟩)) := by
  obtain ⟨i0, hi, hz0, hz1, hz2⟩ := info_parts infoByteF
  obtain ⟨c0, c1, c2, c3⟩ := h.cells
  obtain ⟨a2, cap2, e2⟩ : ∃ a cap, v2 = .slice a l.length cap := by
    rcases h.form2 with ⟨e, e0⟩ | ⟨g, cap, e, _⟩
    · exact ⟨none, 0, by rw [e, e0]⟩
    · exact ⟨_, cap, e⟩
  subst e2
  by_cases hn : n = 0
  · subst hn
    cases l with
    | nil =>
      rw [if_pos ⟨rfl, rfl⟩]
      have H := Lib.hid h
      clear h c0 c1
      simp only [List.length_nil] at c3 H ⊢
      go_enter Try.func51, Try.ntmps51
      go_wp2_with (at_builtin; refine wpList_append_own_at _ rfl _ _ 39 rfl 0 5 i0 (.int .u8 0) 1 1 Try.underlying39 hi hz0 hz1 hz2 rfl (by decide) _ _ _ rfl (H.out.blanks.alloc _) ⟨w.heap.size, 0, none⟩ 1 1 [.int .u8 32] rfl rfl (cell_one_new _ _ _) ?c2 ?c3 ?c4 (Nat.zero_le _) ?_)
      case c2 => intro u hu; simp at hu; subst hu; rfl
      case c3 => unfold maxLen; simp
      case c4 => simp
      intro v' w2 hown hgrow _ hloc
      have hG : w.grownBy w2 (Value.slice a2 0 cap2).ownBlock := (World.grownBy_alloc w _ _).trans hgrow
      have hL : ∀ k, v'.ownBlock = some k → (Value.slice a2 0 cap2).ownBlock = some k ∨ w.heap.size ≤ k := fun k e => by
        rcases hloc with x | x
        · exact .inl (by rw [← x, e])
        · rw [e] at x; injection x with x; exact .inr (by rw [x]; simp)
      have hO : w2.ownsRow 0 5 1 v' ([32] : Txt).length (Lib.byteCells [32]) := hown
      obtain ⟨x1, x2⟩ := H.out.grow2 (l' := [32]) hG hO hL
      have X1 := Lib.hid x1
      have X2 := Lib.hid x2
      have hb2 : w2.heap[b]? = w.heap[b]? := hG.block b H.out.ltb (fun e => H.out.ne2 e.symm)
      have d1 : w2.cell? ⟨b, 3, none⟩ = some (.slice a2 0 cap2) := by rw [Lib.cell_of_heap (hb2.trans H.out.blk)]; rfl
      have f1 : w2.frozen? ⟨b, 3, none⟩ = false := Lib.frozen_of_heap (hb2.trans H.out.blk) 3
      clear hown hgrow hloc hG hL hO x1 x2 hb2
      obtain ⟨a, m, cap, e⟩ : ∃ a m cap, v' = .slice a m cap := by
        rcases X1.out.form2 with ⟨e, _⟩ | ⟨g, cap, e, _⟩ <;> exact ⟨_, _, _, e⟩
      subst e
      go_wp2
      refine bodyPost_end (results_none rfl _ _ _) rfl ?_
      exact ⟨rfl, _, _, _, X1.out, X2.out⟩
    | cons d l =>
      rw [if_neg (fun e => by cases e.2)]
      obtain ⟨k, hk⟩ : ∃ k, (d :: l).length = k := ⟨_, rfl⟩
      have hk0 : ((k : Int) == 0) = false := by rw [beq_eq_false_iff_ne]; simp only [List.length_cons] at hk; omega
      rw [hk] at c3 h ⊢
      have H := Lib.hid h
      clear h c0 c1 hk
      go_enter Try.func51, Try.ntmps51
      go_wp2
      refine bodyPost_end (results_none rfl _ _ _) rfl ?_
      exact ⟨rfl, _, _, _, H.out, Moves.refl _ _⟩
  · rw [if_neg (fun e => hn e.1)]
    have hn0 : ((n : Int) == 0) = false := by rw [beq_eq_false_iff_ne]; omega
    have H := Lib.hid h
    clear h c0 c1 hn
    go_enter Try.func51, Try.ntmps51
    go_wp2
    refine bodyPost_end (results_none rfl _ _ _) rfl ?_
    exact ⟨rfl, _, _, _, H.out, Moves.refl _ _⟩

set_option maxRecDepth 100000 in
set_option maxHeartbeats 4000000 in
/-- tell, from where the byte itself is told -/
theorem tell_any {w : World} {b : Nat} {p v1 : Value} {n : Nat} {v2 : Value} {t l : Txt} (h : FloX w b p v1 n v2 t l) (hs : t.length + n + l.length ≤ 1073741824) (c : UInt8) (q : Int) (hq : (c.toNat : Int) = q) :
    Calls Try.prog 53 #[.pointer (some ⟨b, 0, none⟩), .int .u8 q] w (Did w b v1 v2 ⟨tellF ⟨t, n, l⟩ c, 0, []⟩) := by
  have CL := Lib.hid (lenF h)
  have CW := fun {w' : World} {p' v1' : Value} (t' : Txt) (h' : FloX w' b p' v1' n v2 t' l) (ht : t'.length ≤ 2147483648) => Lib.hid (writeByteF h' c q hq ht)
  have CD := fun {w' : World} {p' v1' : Value} (t' : Txt) (h' : FloX w' b p' v1' n v2 t' l) => Lib.hid (dropF (h'.waits 0))
  have CN := fun {w' : World} {p' v1' : Value} (i : Nat) (hi : i ≤ n) (h' : FloX w' b p' v1' n v2 (t ++ List.replicate i 10) l) => Lib.hid (writeByteF h' 10 10 rfl (by rw [List.length_append, List.length_replicate]; omega))
  have MZ := fun (w' : World) (v1' : Value) => Lib.hid (moves_one (w := w') (b := b) (v1 := v1') (v2 := v2) 2 (.int .i64 ((0 : Nat) : Int)))
  have H := Lib.hid h
  by_cases h0 : t = []
  · subst h0
    have e : tellF ⟨[], n, l⟩ c = [] ++ [c] := by unfold tellF; simp
    rw [e]
    have hw := CW [] h (by simp)
    clear h CW CN hq e hs
    go_enter Try.func53, Try.ntmps53
    go_wp2_with (first
      | (go_at_call 54; refine CL.out.mono ?_; rintro e w' ⟨rfl, rfl⟩)
      | (go_at_call 55; refine hw.out.mono ?_; rintro e w1 ⟨rfl, p', v1', x1, x2⟩; have X1 := Lib.hid x1; have X2 := Lib.hid x2; have D := CD _ x1; obtain ⟨y0, y1, y2, y3⟩ := x1.cells; have f2 := x1.thawed 2; clear x1 x2 y0 y1 y3)
      | (go_at_call 48; refine D.out.mono ?_; rintro e w2 ⟨rfl, v2', z1, z2⟩; have Z1 := Lib.hid z1; have Z2 := Lib.hid (X2.out.trans ((MZ _ _).out.trans z2)); clear z1 z2))
    refine bodyPost_end (results_none rfl _ _ _) rfl ?_
    exact ⟨rfl, _, _, _, Z1.out, Z2.out⟩
  · have e : tellF ⟨t, n, l⟩ c = ((t ++ List.replicate n 10) ++ l) ++ [c] := by unfold tellF; rw [if_neg h0]
    rw [e]
    have hpos : (0 : Int) < (t.length : Int) := by
      have := List.length_pos_iff.2 h0
      omega
    have hn : n ≤ 1073741824 := by omega
    have hd1 : decide ((0 : Int) < (t.length : Int)) = true := by simpa using hpos
    have hd2 : decide (0 < t.length) = true := by simpa using hpos
    have CR := fun {w' : World} {p' v1' : Value} (h' : FloX w' b p' v1' n v2 (t ++ List.replicate n 10) l) => Lib.hid (writeF h' (fun e => h0 (List.append_eq_nil_iff.1 e).1) (by rw [List.length_append, List.length_replicate]; omega))
    have CW := fun {w' : World} {p' v1' : Value} (h' : FloX w' b p' v1' n v2 ((t ++ List.replicate n 10) ++ l) l) => CW _ h' (by rw [List.length_append, List.length_append, List.length_replicate]; omega)
    obtain ⟨c0, c1, c2, c3⟩ := h.cells
    clear h hq e hs c0 c1 c3
    have h0 := Lib.hid h0
    go_enter Try.func53, Try.ntmps53
    go_wp2_with (go_at_call 54; refine CL.out.mono ?_; rintro e w' ⟨rfl, rfl⟩)
    clear CL hpos hd1 hd2 c2
    go_loopw [13] (fun v wr => ∃ i : Nat, v = .int .i64 (i : Int) ∧ i ≤ n ∧ ∃ p' v1', FloX wr b p' v1' n v2 (t ++ List.replicate i 10) l ∧ Moves (Foot b v1 v2) (Foot b v1' v2) w' wr) (fun v _ => n - (intOf v).toNat)
    case atStart => exact ⟨0, rfl, Nat.zero_le _, _, _, by rw [List.replicate_zero, List.append_nil]; exact H.out, Moves.refl _ _⟩
    case round =>
      obtain ⟨i, rfl, hi, p', v1', x1, x2⟩ := hrel
      by_cases hlt : i < n
      · have C := CN i hi x1
        have X2 := Lib.hid x2
        clear x1 x2
        go_wp2_with (go_at_call 55; refine C.out.mono ?_; rintro e w1 ⟨rfl, p2, v12, z1, z2⟩)
        go_roundw
        case rel =>
          refine ⟨i + 1, by go_num, by omega, p2, v12, ?_, X2.out.trans z2⟩
          rw [List.replicate_succ', ← List.append_assoc]; exact z1
        case measure => simp [intOf]; omega
      · obtain rfl : i = n := by omega
        have C := CR x1
        have X2 := Lib.hid x2
        obtain ⟨c0, c1, c2, c3⟩ := x1.drew.cells
        have C := CR x1.drew
        clear x1 x2 c0 c1 c2 CN
        go_wp2
        go_still_tail 7, (by kernel_rfl)
        change wpList _ _ _ _ _ wr.drew
        obtain ⟨w2, hw2⟩ : ∃ w2, wr.drew = w2 := ⟨_, rfl⟩
        have X3 := Lib.hid (show Moves _ _ _ w2 from X2.out.trans (hw2 ▸ moves_drew _ _))
        rw [hw2] at C c3 ⊢
        clear hw2
        go_wp2_with (go_at_call 56; refine C.out.mono ?_; rintro e w3 ⟨rfl, p3, v13, x1, x2⟩; have HW := CW x1; have X4 := Lib.hid (X3.out.trans x2); clear x1 x2)
        go_wp2_with (first
          | (go_at_call 55; refine HW.out.mono ?_; rintro e w4 ⟨rfl, p4, v14, x1, x2⟩; have X1 := Lib.hid x1; have X5 := Lib.hid (X4.out.trans x2); have D := CD _ x1; obtain ⟨y0, y1, y2, y3⟩ := x1.cells; have f2 := x1.thawed 2; clear x1 x2 y0 y1 y3)
          | (go_at_call 48; refine D.out.mono ?_; rintro e w5 ⟨rfl, v2', z1, z2⟩; have Z1 := Lib.hid z1; have Z2 := Lib.hid (X5.out.trans ((MZ _ _).out.trans z2)); clear z1 z2))
        refine bodyPost_end (results_none rfl _ _ _) rfl ?_
        exact ⟨rfl, _, _, _, Z1.out, Z2.out⟩

theorem putL_next (keep : Bool) (f : FloP) (s : Txt) (i : Nat) (c : UInt8) (h : s[i]? = some c) : putL keep f (s.take (i + 1)) = putB keep (putL keep f (s.take i)) c := by
  rw [List.take_add_one, h, putL_app]; rfl
theorem deed_ways (keep : Bool) (c : UInt8) :
    (deedN keep c = 49 ∧ ∀ f, putB keep f c = f) ∨
    (deedN keep c = 50 ∧ ∀ f, putB keep f c = ⟨f.told, f.ends + 1, []⟩) ∨
    (deedN keep c = 51 ∧ ∀ f, putB keep f c = if f.ends = 0 ∧ f.blanks = [] then ⟨f.told, 0, [32]⟩ else ⟨f.told, f.ends, f.blanks⟩) ∨
    (deedN keep c = 52 ∧ ∀ f, putB keep f c = ⟨f.told, f.ends, f.blanks ++ [c]⟩) ∨
    (deedN keep c = 53 ∧ ∀ f, putB keep f c = ⟨tellF f c, 0, []⟩) := by
  by_cases h0 : c = 0
  · exact .inl ⟨by unfold deedN; rw [if_pos h0], fun f => by unfold putB; rw [if_pos h0]⟩
  by_cases h1 : c = 10 ∨ c = 13
  · have hb : blkB c = true := by rcases h1 with rfl | rfl <;> rfl
    cases keep with
    | true => exact .inr (.inl ⟨by unfold deedN; rw [if_neg h0, if_pos h1, if_pos rfl], fun f => by unfold putB; rw [if_neg h0, if_pos hb, if_pos rfl, if_pos h1]⟩)
    | false => exact .inr (.inr (.inl ⟨by unfold deedN; rw [if_neg h0, if_pos h1, if_neg Bool.false_ne_true], fun f => by unfold putB; rw [if_neg h0, if_pos hb, if_neg Bool.false_ne_true]⟩))
  by_cases h2 : c = 9 ∨ c = 12 ∨ c = 32
  · have hb : blkB c = true := by rcases h2 with rfl | rfl | rfl <;> rfl
    cases keep with
    | true => exact .inr (.inr (.inr (.inl ⟨by unfold deedN; rw [if_neg h0, if_neg h1, if_pos h2, if_pos rfl], fun f => by unfold putB; rw [if_neg h0, if_pos hb, if_pos rfl, if_neg h1]⟩)))
    | false => exact .inr (.inr (.inl ⟨by unfold deedN; rw [if_neg h0, if_neg h1, if_pos h2, if_neg Bool.false_ne_true], fun f => by unfold putB; rw [if_neg h0, if_pos hb, if_neg Bool.false_ne_true]⟩))
  · have hb : ¬ blkB c = true := fun e => by
      rcases (blk_is c).1 e with e | e | e | e | e
      · exact h2 (.inl e)
      · exact h1 (.inl e)
      · exact h2 (.inr (.inl e))
      · exact h1 (.inr e)
      · exact h2 (.inr (.inr e))
    exact .inr (.inr (.inr (.inr ⟨by unfold deedN; rw [if_neg h0, if_neg h1, if_neg h2], fun f => by unfold putB; rw [if_neg h0, if_neg hb]⟩)))

set_option maxRecDepth 100000 in
set_option maxHeartbeats 8000000 in
theorem putF_any {w : World} {b : Nat} {p v1 v2 : Value} (f : FloP) (h : FloX w b p v1 f.ends v2 f.told f.blanks) (s : ByteArray) (keep : Bool) (hs : f.size + s.size ≤ 1073741824) :
    Calls Try.prog 37 #[.pointer (some ⟨b, 0, none⟩), .string s, .bool keep] w (Did w b v1 v2 (putL keep f s.data.toList)) := by
  have H := Lib.hid h
  have HS := Lib.hid hs
  have hsz : s.size ≤ 1073741824 := by omega
  clear h hs
  go_enter Try.func37, Try.ntmps37
  go_wp2
  go_loopw [10] (fun v wr => ∃ i : Nat, v = .int .i64 (i : Int) ∧ i ≤ s.size ∧ ∃ p' v1' v2', FloX wr b p' v1' (putL keep f (s.data.toList.take i)).ends v2' (putL keep f (s.data.toList.take i)).told (putL keep f (s.data.toList.take i)).blanks ∧ Moves (Foot b v1 v2) (Foot b v1' v2') w wr) (fun v _ => s.size - (intOf v).toNat)
  case atStart => exact ⟨0, rfl, Nat.zero_le _, p, v1, v2, by rw [List.take_zero]; exact H.out, Moves.refl _ _⟩
  case round =>
    obtain ⟨i, rfl, hi, p', v1', v2', x1, x2⟩ := hrel
    by_cases hlt : i < s.size
    · have SN := Lib.hid (putL_next keep f s.data.toList i s.data[i] (by simp))
      have SZ := Lib.hid (show (putL keep f (s.data.toList.take i)).size ≤ 1073741824 by
        have := putL_size keep (s.data.toList.take i) f
        have h2 := HS.out
        rw [List.length_take] at this
        omega)
      generalize hG : putL keep f (s.data.toList.take i) = G at x1 SN SZ
      have X2 := Lib.hid x2
      obtain ⟨T, n, l⟩ := G
      simp only at x1
      have hz : T.length + n + l.length ≤ 1073741824 := SZ.out
      have CD := deed_any keep s.data[i] ((s.data[i].toNat : Nat) : Int) wr rfl
      rcases deed_ways keep s.data[i] with ⟨e1, e2⟩ | ⟨e1, e2⟩ | ⟨e1, e2⟩ | ⟨e1, e2⟩ | ⟨e1, e2⟩
      · rw [e1] at CD
        have C := Lib.hid (passF x1 _ : Calls Try.prog 49 #[.pointer (some ⟨b, 0, none⟩), .int .u8 ((s.data[i].toNat : Nat) : Int)] wr _)
        have E := Lib.hid ((e2 _).symm.trans SN.out.symm)
        have CD := Lib.hid CD
        clear x1 x2 e1 e2 SN SZ hz hG
        go_wp2_with (first
          | (go_at_call 46; refine CD.out.mono ?_; rintro e w' ⟨rfl, rfl⟩)
          | (go_at_call 49; refine C.out.mono ?_; rintro e w3 ⟨rfl, p3, v13, v23, z1, z2⟩))
        go_roundw
        case rel =>
          refine ⟨i + 1, by go_num, by omega, p3, v13, v23, ?_, X2.out.trans z2⟩
          rw [← E.out]; exact z1
        case measure => simp [intOf]; omega
      · rw [e1] at CD
        have C := Lib.hid (endF x1 (by omega) _ : Calls Try.prog 50 #[.pointer (some ⟨b, 0, none⟩), .int .u8 ((s.data[i].toNat : Nat) : Int)] wr _)
        have E := Lib.hid ((e2 _).symm.trans SN.out.symm)
        have CD := Lib.hid CD
        clear x1 x2 e1 e2 SN SZ hz hG
        go_wp2_with (first
          | (go_at_call 46; refine CD.out.mono ?_; rintro e w' ⟨rfl, rfl⟩)
          | (go_at_call 50; refine C.out.mono ?_; rintro e w3 ⟨rfl, p3, v13, v23, z1, z2⟩))
        go_roundw
        case rel =>
          refine ⟨i + 1, by go_num, by omega, p3, v13, v23, ?_, X2.out.trans z2⟩
          rw [← E.out]; exact z1
        case measure => simp [intOf]; omega
      · rw [e1] at CD
        have C := Lib.hid (foldF x1 _ : Calls Try.prog 51 #[.pointer (some ⟨b, 0, none⟩), .int .u8 ((s.data[i].toNat : Nat) : Int)] wr _)
        have E := Lib.hid ((e2 _).symm.trans SN.out.symm)
        have CD := Lib.hid CD
        clear x1 x2 e1 e2 SN SZ hz hG
        go_wp2_with (first
          | (go_at_call 46; refine CD.out.mono ?_; rintro e w' ⟨rfl, rfl⟩)
          | (go_at_call 51; refine C.out.mono ?_; rintro e w3 ⟨rfl, p3, v13, v23, z1, z2⟩))
        go_roundw
        case rel =>
          refine ⟨i + 1, by go_num, by omega, p3, v13, v23, ?_, X2.out.trans z2⟩
          rw [← E.out]; exact z1
        case measure => simp [intOf]; omega
      · rw [e1] at CD
        have C := Lib.hid (holdF x1 (by omega) s.data[i] _ rfl : Calls Try.prog 52 #[.pointer (some ⟨b, 0, none⟩), .int .u8 ((s.data[i].toNat : Nat) : Int)] wr _)
        have E := Lib.hid ((e2 _).symm.trans SN.out.symm)
        have CD := Lib.hid CD
        clear x1 x2 e1 e2 SN SZ hz hG
        go_wp2_with (first
          | (go_at_call 46; refine CD.out.mono ?_; rintro e w' ⟨rfl, rfl⟩)
          | (go_at_call 52; refine C.out.mono ?_; rintro e w3 ⟨rfl, p3, v13, v23, z1, z2⟩))
        go_roundw
        case rel =>
          refine ⟨i + 1, by go_num, by omega, p3, v13, v23, ?_, X2.out.trans z2⟩
          rw [← E.out]; exact z1
        case measure => simp [intOf]; omega
      · rw [e1] at CD
        have C := Lib.hid (tell_any x1 hz s.data[i] _ rfl : Calls Try.prog 53 #[.pointer (some ⟨b, 0, none⟩), .int .u8 ((s.data[i].toNat : Nat) : Int)] wr _)
        have E := Lib.hid ((e2 _).symm.trans SN.out.symm)
        have CD := Lib.hid CD
        clear x1 x2 e1 e2 SN SZ hz hG
        go_wp2_with (first
          | (go_at_call 46; refine CD.out.mono ?_; rintro e w' ⟨rfl, rfl⟩)
          | (go_at_call 53; refine C.out.mono ?_; rintro e w3 ⟨rfl, p3, v13, v23, z1, z2⟩))
        go_roundw
        case rel =>
          refine ⟨i + 1, by go_num, by omega, p3, v13, v23, ?_, X2.out.trans z2⟩
          rw [← E.out]; exact z1
        case measure => simp [intOf]; omega
    · obtain rfl : i = s.size := by omega
      have e : s.data.toList.take s.size = s.data.toList := List.take_of_length_le (by rw [Lib.size_eq]; exact Nat.le_refl _)
      rw [e] at x1
      have X1 := Lib.hid x1
      have X2 := Lib.hid x2
      clear x1 x2 e
      go_wp2
      refine bodyPost_end (results_none rfl _ _ _) (by rfl) ?_
      exact ⟨rfl, _, _, _, X1.out, X2.out⟩

/-! the contracts -/
theorem did_floO {w : World} {b : Nat} {v1 v2 : Value} {f : FloP} {e : Ending} {w' : World} (h : Did w b v1 v2 f e w') : e = .returned (.tuple #[]) ∧ ∃ F', FloO ⟨b, 0, none⟩ f w' F' ∧ Moves (Foot b v1 v2) F' w w' := by
  obtain ⟨e1, p', v1', v2', h1, h2⟩ := h
  exact ⟨e1, _, ⟨b, p', v1', v2', rfl, h1, fun _ => Iff.rfl⟩, h2⟩
theorem floPut_any (g : Addr) (f : FloP) (s : ByteArray) (keep : Bool) (w : World) (F : Blocks) (h : FloO g f w F) (hs : f.size + s.size ≤ 1073741824) :
    Calls Try.prog 37 #[.pointer (some g), .string s, .bool keep] w fun e w' => e = .returned (.tuple #[]) ∧ ∃ F', FloO g (putL keep f s.data.toList) w' F' ∧ Moves F F' w w' := by
  obtain ⟨b, p, v1, v2, rfl, h1, rfl⟩ := floO_of h
  exact (putF_any f h1 s keep hs).mono fun e w' hd => did_floO hd
theorem floBreak_any (g : Addr) (f : FloP) (n : Int) (w : World) (F : Blocks) (h : FloO g f w F) (hs : f.size ≤ 1073741824) (hn : -9223372036854775808 ≤ n ∧ n ≤ 9223372036854775807) :
    Calls Try.prog 44 #[.pointer (some g), .int .i64 n] w fun e w' => e = .returned (.tuple #[]) ∧ ∃ F', FloO g (brkF n f) w' F' ∧ Moves F F' w w' := by
  obtain ⟨b, p, v1, v2, rfl, h1, rfl⟩ := floO_of h
  refine (breakF_any h1 n (by unfold FloP.size at hs; omega) hn).mono ?_
  rintro e w' ⟨rfl, v2', h2, h3⟩
  exact ⟨rfl, _, ⟨b, p, v1, v2', rfl, h2, fun _ => Iff.rfl⟩, h3⟩
theorem floLine_any (g : Addr) (f : FloP) (w : World) (F : Blocks) (h : FloO g f w F) (hs : f.size ≤ 1073741824) :
    Calls Try.prog 43 #[.pointer (some g)] w fun e w' => e = .returned (.tuple #[]) ∧ ∃ F', FloO g (lineF f) w' F' ∧ Moves F F' w w' := by
  obtain ⟨b, p, v1, v2, rfl, h1, rfl⟩ := floO_of h
  refine (lineF_any h1 (by unfold FloP.size at hs; omega)).mono ?_
  rintro e w' ⟨rfl, v2', h2, h3⟩
  exact ⟨rfl, _, ⟨b, p, v1, v2', rfl, h2, fun _ => Iff.rfl⟩, h3⟩
set_option maxRecDepth 100000 in
set_option maxHeartbeats 2000000 in
theorem floText_any (g : Addr) (f : FloP) (w : World) (F : Blocks) (h : FloO g f w F) (_ : f.size ≤ 1073741824) :
    Calls Try.prog 18 #[.pointer (some g)] w fun e w' => e = .returned (.string ⟨f.told.toArray⟩) ∧ ∃ F', FloO g f w' F' ∧ Moves F F' w w' := by
  obtain ⟨b, p, v1, v2, rfl, h1, rfl⟩ := floO_of h
  have C := Lib.hid (stringF h1)
  clear h h1
  go_enter Try.func18, Try.ntmps18
  go_wp2_with (go_at_call 38; refine C.out.mono ?_; rintro e w' ⟨rfl, x1, x2⟩; have X1 := Lib.hid x1; have X2 := Lib.hid x2; clear x1 x2)
  go_ret
  exact ⟨rfl, _, ⟨b, p, v1, v2, rfl, X1.out, fun _ => Iff.rfl⟩, X2.out⟩
set_option maxRecDepth 100000 in
set_option maxHeartbeats 2000000 in
theorem floNew_any (w : World) :
    Calls Try.prog 16 #[] w fun e w' => ∃ g F, e = .returned (.pointer (some g)) ∧ FloO g flo0 w' F ∧ (∀ k, F k → w.heap.size ≤ k) ∧ Below w.heap.size w w' := by
  have hX := Lib.hid (show FloX (w.alloc (.cells #[.pointer none, .slice none 0 0, .int .i64 ((0 : Nat) : Int), .slice none 0 0] 66)) w.heap.size (.pointer none) (.slice none 0 0) 0 (.slice none 0 0) [] [] from
    ⟨heap_alloc_new w _, .inl rfl, World.ownsRowF_nil _ _ _ _, World.ownsRow_nil _ _ _ _, fun k e => (by cases e), fun _ => rfl⟩)
  have hB := Lib.hid ((Below.refl w.heap.size w).alloc (Nat.le_refl _) (.cells #[.pointer none, .slice none 0 0, .int .i64 ((0 : Nat) : Int), .slice none 0 0] 66))
  go_enter Try.func16, Try.ntmps16
  go_wp2
  go_ret
  refine ⟨⟨w.heap.size, 0, none⟩, Foot w.heap.size (.slice none 0 0) (.slice none 0 0), rfl, ⟨w.heap.size, _, _, _, rfl, hX.out, fun _ => Iff.rfl⟩, ?_, hB.out⟩
  rintro k (e | e | e)
  · omega
  · cases e
  · cases e
end Go.Proofs.Ytappdjhhaohejaa
