/-
  The law DoctypeWritten of flail/flaillaw11 answers true for every input, and changes nothing that was there. No condition.
-/
import Derived.Test.YtbceopiipigljaaRows
import Derived.Test.YtbceopiipigljaaDtAwake
import Derived.Test.YtbceopiipigljaaDtAt
import Derived.Test.YtbceopiipigljaaP1
import Derived.WalkKit
import Derived.ProofKit
import Derived.ChangeOld
import Derived.Below
import Derived.OpenShut
import Derived.ShutString
namespace Go.Proofs.Ytbceopiipigljaa.doctypeWritten
open Go.ChangeShapes Go.WideShapes Go.ChangeAt Go.RowKit
open Go.ChangeMaps (open_string shut_string)
set_option linter.unusedVariables false      -- a walk need not use every 'w<i>' (that an integer argument fits its kind)

theorem own : ownKnob Try.prog.godebug = none := by kernel_rfl

theorem tw_to (q : UInt8) : ∀ (a r : Txt), q ∉ a → (a ++ q :: r).takeWhile (· != q) = a ∧ (a ++ q :: r).dropWhile (· != q) = q :: r
  | [], r, _ => by
    rw [List.nil_append, List.takeWhile_cons, List.dropWhile_cons, if_neg (by simp), if_neg (by simp)]; exact ⟨rfl, rfl⟩
  | x :: a, r, h => by
    rw [List.mem_cons, not_or] at h
    obtain ⟨h1, h2⟩ := tw_to q a r h.2
    have hx : (x != q) = true := by rw [bne_iff_ne]; exact fun e => h.1 e.symm
    rw [List.cons_append, List.takeWhile_cons, List.dropWhile_cons, if_pos hx, if_pos hx, h1, h2]; exact ⟨rfl, rfl⟩
theorem sp_quo {q : UInt8} (h : quoB q = true) : spaB q = false := by
  unfold quoB at h
  rw [Bool.or_eq_true, beq_iff_eq, beq_iff_eq] at h
  rcases h with rfl | rfl <;> decide
theorem st5_told (d : DocP) {q : UInt8} (hq : quoB q = true) (b r : Txt) (hb : q ∉ b) (h0 : 0 ∉ b) (hr : r.dropWhile spaB = []) : st5 d true q (b ++ q :: r) = { d with sys := b, hs := true, q := false } := by
  obtain ⟨h1, h2⟩ := tw_to q b r hb
  unfold st5
  rw [h1, h2]
  simp only
  rw [hr, cleanL_same b h0]; rfl
theorem skip_one (x : UInt8) (l : Txt) (h : spaB x = true) : (x :: l).dropWhile spaB = l.dropWhile spaB := by rw [List.dropWhile_cons, if_pos h]
theorem stop_one (x : UInt8) (l : Txt) (h : spaB x = false) : (x :: l).dropWhile spaB = x :: l := by rw [List.dropWhile_cons, if_neg (by rw [h]; exact Bool.false_ne_true)]
/-- in quotes, behind a Space or not -/
theorem st3_told (d : DocP) {q : UInt8} (hq : quoB q = true) (l a b : Txt) (hl : l.dropWhile spaB = q :: (a ++ q :: q :: (b ++ [q]))) (ha : q ∉ a) (h0 : 0 ∉ a) (hb : q ∉ b) (h1 : 0 ∉ b) :
    st3 d true l = { d with pub := a, hp := true, sys := b, hs := true, q := false } := by
  obtain ⟨t1, t2⟩ := tw_to q a (q :: (b ++ [q])) ha
  unfold st3
  rw [hl]
  simp only
  rw [if_pos hq, t1, t2]
  simp only
  rw [stop_one q _ (sp_quo hq)]
  simp only
  rw [if_pos hq, cleanL_same a h0, st5_told _ hq b [] hb h1 rfl]
theorem st4_told (d : DocP) {q : UInt8} (hq : quoB q = true) (l b : Txt) (hl : l.dropWhile spaB = q :: (b ++ q :: [32])) (hb : q ∉ b) (h1 : 0 ∉ b) :
    st4 d true l = { d with sys := b, hs := true, q := false } := by
  unfold st4
  rw [hl]
  simp only
  rw [if_pos hq, st5_told _ hq b [32] hb h1 (by decide)]
theorem name_told (c x : UInt8) (l : Txt) (hc : spaB c = false) (hx : spaB x = true) (hl : lowB c = c) (h0 : c ≠ 0) : dtN (c :: x :: l) = [c] ∧ (c :: x :: l).dropWhile (fun c => !spaB c) = x :: l := by
  have e1 : (c :: x :: l).takeWhile (fun c => !spaB c) = [c] := by
    rw [List.takeWhile_cons, if_pos (by rw [hc]; rfl), List.takeWhile_cons, if_neg (by rw [hx]; exact Bool.false_ne_true)]
  refine ⟨?_, ?_⟩
  · unfold dtN
    rw [e1, lowL_cons, hl]
    exact cleanL_same [c] (by simpa using Ne.symm h0)
  · rw [List.dropWhile_cons, if_pos (by rw [hc]; rfl), List.dropWhile_cons, if_neg (by rw [hx]; exact Bool.false_ne_true)]
/-- what is written -/
theorem pub_told (c q : UInt8) (W a b : Txt) (hc : spaB c = false) (hl : lowB c = c) (hz : c ≠ 0) (hq : quoB q = true) (hW : W = [32, 112, 117, 98, 108, 105, 99, 32] ∨ W = [10, 80, 85, 66, 76, 73, 67]) (ha : q ∉ a) (h0 : 0 ∉ a) (hb : q ∉ b) (h1 : 0 ∉ b) :
    parseD ([32] ++ [c] ++ W ++ [q] ++ a ++ [q] ++ [q] ++ b ++ [q]) true = ⟨[c], a, b, true, true, true, false⟩ := by
  have e : [32] ++ [c] ++ W ++ [q] ++ a ++ [q] ++ [q] ++ b ++ [q] = 32 :: c :: (W ++ q :: (a ++ q :: q :: (b ++ [q]))) := by simp
  rw [e]
  obtain ⟨R, hR⟩ : ∃ R, q :: (a ++ q :: q :: (b ++ [q])) = R := ⟨_, rfl⟩
  rw [hR]
  have hs : R.dropWhile spaB = R := by rw [← hR]; exact stop_one q _ (sp_quo hq)
  unfold parseD
  rw [skip_one 32 _ (by decide), stop_one c _ hc]
  simp only
  rcases hW with rfl | rfl
  · obtain ⟨n1, n2⟩ := name_told c 32 ([112, 117, 98, 108, 105, 99, 32] ++ R) hc (by decide) hl hz
    rw [show c :: ([32, 112, 117, 98, 108, 105, 99, 32] ++ R) = c :: 32 :: ([112, 117, 98, 108, 105, 99, 32] ++ R) from rfl, n1, n2]
    unfold st2
    rw [skip_one 32 _ (by decide), show [112, 117, 98, 108, 105, 99, 32] ++ R = 112 :: ([117, 98, 108, 105, 99, 32] ++ R) from rfl, stop_one 112 _ (by decide)]
    simp only
    rw [if_pos (show pubL.isPrefixOf (lowL (112 :: ([117, 98, 108, 105, 99, 32] ++ R))) = true from List.isPrefixOf_iff_prefix.2 ⟨lowL (32 :: R), rfl⟩), show (112 :: ([117, 98, 108, 105, 99, 32] ++ R)).drop 6 = 32 :: R from rfl,
      st3_told _ hq (32 :: R) a b (by rw [skip_one 32 _ (by decide), hs, hR]) ha h0 hb h1]
  · obtain ⟨n1, n2⟩ := name_told c 10 ([80, 85, 66, 76, 73, 67] ++ R) hc (by decide) hl hz
    rw [show c :: ([10, 80, 85, 66, 76, 73, 67] ++ R) = c :: 10 :: ([80, 85, 66, 76, 73, 67] ++ R) from rfl, n1, n2]
    unfold st2
    rw [skip_one 10 _ (by decide), show [80, 85, 66, 76, 73, 67] ++ R = 80 :: ([85, 66, 76, 73, 67] ++ R) from rfl, stop_one 80 _ (by decide)]
    simp only
    rw [if_pos (show pubL.isPrefixOf (lowL (80 :: ([85, 66, 76, 73, 67] ++ R))) = true from List.isPrefixOf_iff_prefix.2 ⟨lowL (R), rfl⟩), show (80 :: ([85, 66, 76, 73, 67] ++ R)).drop 6 = R from rfl,
      st3_told _ hq R a b (by rw [hs, hR]) ha h0 hb h1]
theorem sys_told (c q : UInt8) (W b : Txt) (hc : spaB c = false) (hl : lowB c = c) (hz : c ≠ 0) (hq : quoB q = true) (hW : W = [32, 115, 121, 115, 116, 101, 109, 32] ∨ W = [9, 83, 89, 83, 84, 69, 77]) (hb : q ∉ b) (h1 : 0 ∉ b) :
    parseD ([c] ++ W ++ [q] ++ b ++ [q] ++ [32]) true = ⟨[c], [], b, true, false, true, false⟩ := by
  have e : [c] ++ W ++ [q] ++ b ++ [q] ++ [32] = c :: (W ++ q :: (b ++ q :: [32])) := by simp
  rw [e]
  obtain ⟨R, hR⟩ : ∃ R, q :: (b ++ q :: [32]) = R := ⟨_, rfl⟩
  rw [hR]
  have hs : R.dropWhile spaB = R := by rw [← hR]; exact stop_one q _ (sp_quo hq)
  unfold parseD
  rw [stop_one c _ hc]
  simp only
  rcases hW with rfl | rfl
  · obtain ⟨n1, n2⟩ := name_told c 32 ([115, 121, 115, 116, 101, 109, 32] ++ R) hc (by decide) hl hz
    rw [show c :: ([32, 115, 121, 115, 116, 101, 109, 32] ++ R) = c :: 32 :: ([115, 121, 115, 116, 101, 109, 32] ++ R) from rfl, n1, n2]
    unfold st2
    rw [skip_one 32 _ (by decide), show [115, 121, 115, 116, 101, 109, 32] ++ R = 115 :: ([121, 115, 116, 101, 109, 32] ++ R) from rfl, stop_one 115 _ (by decide)]
    simp only
    have np : pubL.isPrefixOf (lowL (115 :: ([121, 115, 116, 101, 109, 32] ++ R))) = false := by
      rw [lowL_cons, pubL, List.isPrefixOf_cons_cons]; rfl
    rw [np, if_neg Bool.false_ne_true, if_pos (show sysL.isPrefixOf (lowL (115 :: ([121, 115, 116, 101, 109, 32] ++ R))) = true from List.isPrefixOf_iff_prefix.2 ⟨lowL (32 :: R), rfl⟩), show (115 :: ([121, 115, 116, 101, 109, 32] ++ R)).drop 6 = 32 :: R from rfl,
      st4_told _ hq (32 :: R) b (by rw [skip_one 32 _ (by decide), hs, hR]) hb h1]
  · obtain ⟨n1, n2⟩ := name_told c 9 ([83, 89, 83, 84, 69, 77] ++ R) hc (by decide) hl hz
    rw [show c :: ([9, 83, 89, 83, 84, 69, 77] ++ R) = c :: 9 :: ([83, 89, 83, 84, 69, 77] ++ R) from rfl, n1, n2]
    unfold st2
    rw [skip_one 9 _ (by decide), show [83, 89, 83, 84, 69, 77] ++ R = 83 :: ([89, 83, 84, 69, 77] ++ R) from rfl, stop_one 83 _ (by decide)]
    simp only
    have np : pubL.isPrefixOf (lowL (83 :: ([89, 83, 84, 69, 77] ++ R))) = false := by
      rw [lowL_cons, pubL, List.isPrefixOf_cons_cons]; rfl
    rw [np, if_neg Bool.false_ne_true, if_pos (show sysL.isPrefixOf (lowL (83 :: ([89, 83, 84, 69, 77] ++ R))) = true from List.isPrefixOf_iff_prefix.2 ⟨lowL (R), rfl⟩), show (83 :: ([89, 83, 84, 69, 77] ++ R)).drop 6 = R from rfl,
      st4_told _ hq R b (by rw [hs, hR]) hb h1]
theorem small_letter : ∀ n, n < 26 → spaB (UInt8.ofNat (97 + n)) = false ∧ lowB (UInt8.ofNat (97 + n)) = UInt8.ofNat (97 + n) ∧ UInt8.ofNat (97 + n) ≠ 0 ∧ (UInt8.ofNat (97 + n)).toNat = 97 + n := by decide +kernel
theorem text_same (s : ByteArray) : (⟨s.data.toList.toArray⟩ : ByteArray) = s := str_ext (by rw [List.toList_toArray])
theorem opt_at (s : ByteArray) (i : Nat) (h : i < s.size) : s.data.toList[i]? = some s[i] := by
  rw [List.getElem?_eq_getElem (by rw [← Lib.size_eq]; exact h)]; rfl
/-- what is asked of each byte -/
def PlainAt (l : Txt) (i : Nat) : Prop := l[i]? ≠ some 34 ∧ l[i]? ≠ some 39 ∧ l[i]? ≠ some 0
theorem plains (l : Txt) (h : ∀ i, i < l.length → PlainAt l i) : 34 ∉ l ∧ 39 ∉ l ∧ 0 ∉ l := by
  have lt : ∀ (i : Nat) (c : UInt8), l[i]? = some c → i < l.length := fun i c e => (List.getElem?_eq_some_iff.1 e).1
  refine ⟨fun e => ?_, fun e => ?_, fun e => ?_⟩
  · obtain ⟨i, hi⟩ := List.mem_iff_getElem?.1 e
    exact (h _ (lt _ _ hi)).1 hi
  · obtain ⟨i, hi⟩ := List.mem_iff_getElem?.1 e
    exact (h _ (lt _ _ hi)).2.1 hi
  · obtain ⟨i, hi⟩ := List.mem_iff_getElem?.1 e
    exact (h _ (lt _ _ hi)).2.2 hi
set_option maxRecDepth 100000 in
set_option maxHeartbeats 8000000 in
theorem walk (a0 : Int) (a1 : ByteArray) (a2 : ByteArray) (a3 : Bool) (a4 : Bool) (w0 : (Lit.int .u8 a0).wf = true) (w1 : a1.size ≤ maxLen) (w2 : a2.size ≤ maxLen) (w : World) :
    Calls Try.prog 6 #[.int .u8 a0, .string a1, .string a2, .bool a3, .bool a4] w fun e w' => e = .returned (.bool true) ∧ Below w.heap.size w w' := by
  have hq0 : 0 ≤ a0 ∧ a0 ≤ 255 := by simpa [Lit.wf, IntKind.min, IntKind.max, IntKind.signed, IntKind.bits] using w0
  clear w0 w1 w2
  have HW := Lib.hid (dtLaid_here w)
  skip
  by_cases hlen : 60 < a1.size ∨ 60 < a2.size
  · have hc : decide ((60 : Int) < (a1.size : Int)) = true ∨ decide ((60 : Int) < (a1.size : Int)) = false ∧ decide ((60 : Int) < (a2.size : Int)) = true := by
      simp only [decide_eq_true_eq, decide_eq_false_iff_not]; omega
    clear hlen
    rcases hc with hc | ⟨hc, hd⟩
    all_goals
      go_enter Try.func6, Try.ntmps6
      go_wp2_with (fail)
      refine (dtAwake_any w HW.out).mono ?_
      rintro e w1 ⟨rfl, c1⟩
      go_wp2
      go_ret
      exact ⟨rfl, c1⟩
  have hs1 : a1.size ≤ 60 := by omega
  have hs2 : a2.size ≤ 60 := by omega
  have d0 : decide ((60 : Int) < (a1.size : Int)) = false := decide_eq_false (by omega)
  have d1 : decide ((60 : Int) < (a2.size : Int)) = false := decide_eq_false (by omega)
  clear hlen
  have g0 : ¬ 9223372036854775807 < a1.size + a2.size := by omega
  obtain ⟨L, hL⟩ : ∃ L : ByteArray, a1 ++ a2 = L := ⟨_, rfl⟩
  have hLl : L.data.toList = a1.data.toList ++ a2.data.toList := by rw [← hL, ByteArray.data_append, Array.toList_append]
  have hLs : L.size ≤ 120 := by rw [← hL, ByteArray.size_append]; omega
  have HLL := Lib.hid hLl
  clear hLl
  go_enter Try.func6, Try.ntmps6
  go_wp2_with (fail)
  refine (dtAwake_any w HW.out).mono ?_
  rintro e w1 ⟨rfl, c1⟩
  go_wp2
  clear d0 d1 g0 hL
  go_loopw [13] (fun v wr => ∃ i : Nat, v = .int .i64 (i : Int) ∧ w1 = wr ∧ i ≤ L.size ∧ Hid (∀ j, j < i → PlainAt L.data.toList j)) (fun v _ => L.size - (intOf v).toNat)
  case atStart => exact ⟨0, rfl, rfl, Nat.zero_le _, Lib.hid fun j h => absurd h (by omega)⟩
  case round =>
    obtain ⟨i, rfl, rfl, hi, HI⟩ := hrel
    by_cases hlt : i < L.size
    · have ho := opt_at L i hlt
      have HO := Lib.hid ho
      clear ho
      by_cases c34 : L[i] = 34
      · have b34 : (((L[i].toNat : Nat) : Int) == 34) = true := by rw [c34]; rfl
        clear c34
        go_wp2
        go_ret
        exact ⟨rfl, c1⟩
      have b34 : (((L[i].toNat : Nat) : Int) == 34) = false := by
        rw [beq_eq_false_iff_ne]; exact fun h => c34 (u8_eq _ 34 (by decide) h)
      by_cases c39 : L[i] = 39
      · have b39 : (((L[i].toNat : Nat) : Int) == 39) = true := by rw [c39]; rfl
        clear c34 c39
        go_wp2
        go_ret
        exact ⟨rfl, c1⟩
      have b39 : (((L[i].toNat : Nat) : Int) == 39) = false := by
        rw [beq_eq_false_iff_ne]; exact fun h => c39 (u8_eq _ 39 (by decide) h)
      by_cases c0 : L[i] = 0
      · have b0 : (((L[i].toNat : Nat) : Int) == 0) = true := by rw [c0]; rfl
        clear c34 c39 c0
        go_wp2
        go_ret
        exact ⟨rfl, c1⟩
      have b0 : (((L[i].toNat : Nat) : Int) == 0) = false := by
        rw [beq_eq_false_iff_ne]; exact fun h => c0 (u8_eq _ 0 (by decide) h)
      have hn : ∀ j, j < i + 1 → PlainAt L.data.toList j := fun j hj => by
        rcases Nat.lt_or_eq_of_le (Nat.le_of_lt_succ hj) with h1 | rfl
        · exact HI.out j h1
        · exact ⟨by rw [HO.out]; exact fun e => c34 (Option.some.inj e), by rw [HO.out]; exact fun e => c39 (Option.some.inj e), by rw [HO.out]; exact fun e => c0 (Option.some.inj e)⟩
      have HN := Lib.hid hn
      clear hn c34 c39 c0
      go_wp2
      go_roundw
      case rel => exact ⟨i + 1, by go_num, trivial, by omega, HN⟩
      case measure => simp [intOf]; omega
    · have hx : i = L.size := by omega
      subst hx
      obtain ⟨o1, o2, o3⟩ := plains L.data.toList (fun j hj => HI.out j (by rw [Lib.size_eq]; exact hj))
      rw [HLL.out, List.mem_append, not_or] at o1 o2 o3
      obtain ⟨n, hn⟩ : ∃ n : Nat, a0 % 26 = n := ⟨(a0 % 26).toNat, by omega⟩
      have hn26 : n < 26 := by omega
      obtain ⟨z1, z2, z3, z4⟩ := small_letter n hn26
      obtain ⟨c, hc⟩ : ∃ c, UInt8.ofNat (97 + n) = c := ⟨_, rfl⟩
      rw [hc] at z1 z2 z3 z4
      have H97 : Hid ((c.toNat : Int) = 97 + a0 % 26) := Lib.hid (by rw [z4, hn]; omega)
      have i0 : 0 ≤ a0 % 26 := by omega
      have i1 : a0 % 26 < 26 := by omega
      have hsz : ∀ X Y : ByteArray, X.size ≤ 1000 → Y.size ≤ 1000 → ¬ 9223372036854775807 < X.size + Y.size := fun X Y h1 h2 => by omega
      have HSZ := Lib.hid hsz
      have ht1 := text_same a1
      have ht2 := text_same a2
      have hcs : (⟨#[c]⟩ : ByteArray).size = 1 := rfl
      clear hn hc hsz z4 hn26
      have HCE : Hid (∀ (u : World) (g : Nat) (x0 x1 x2 x3 x4 x5 x6 : Value), u.heap[g]? = some (.cells #[x0, x1, x2, x3, x4, x5, x6] 31 (0, 0)) → (u.cell? ⟨g, 0, none⟩ = some x0 ∧ u.cell? ⟨g, 1, none⟩ = some x1 ∧ u.cell? ⟨g, 2, none⟩ = some x2 ∧ u.cell? ⟨g, 3, none⟩ = some x3 ∧
        u.cell? ⟨g, 4, none⟩ = some x4 ∧ u.cell? ⟨g, 5, none⟩ = some x5 ∧ u.cell? ⟨g, 6, none⟩ = some x6)) := Lib.hid fun u g x0 x1 x2 x3 x4 x5 x6 h => by
        refine ⟨?_, ?_, ?_, ?_, ?_, ?_, ?_⟩ <;> (rw [cell_of_row _ _ _ _ _ _ h]; rfl)
      cases a4
      · cases a3
        · have e1 : (⟨#[32]⟩ ++ ⟨#[c]⟩ ++ ⟨#[32, 112, 117, 98, 108, 105, 99, 32]⟩ ++ ⟨#[34]⟩ ++ a1 ++ ⟨#[34]⟩ ++ ⟨#[34]⟩ ++ a2 ++ ⟨#[34]⟩ : ByteArray).data.toList = [32] ++ [c] ++ [32, 112, 117, 98, 108, 105, 99, 32] ++ [34] ++ a1.data.toList ++ [34] ++ [34] ++ a2.data.toList ++ [34] := by
            simp only [ByteArray.data_append, Array.toList_append]
          have e2 : (⟨#[c]⟩ ++ ⟨#[32, 115, 121, 115, 116, 101, 109, 32]⟩ ++ ⟨#[34]⟩ ++ a2 ++ ⟨#[34]⟩ ++ ⟨#[32]⟩ : ByteArray).data.toList = [c] ++ [32, 115, 121, 115, 116, 101, 109, 32] ++ [34] ++ a2.data.toList ++ [34] ++ [32] := by
            simp only [ByteArray.data_append, Array.toList_append]
          have v1 := pub_told c 34 [32, 112, 117, 98, 108, 105, 99, 32] a1.data.toList a2.data.toList z1 z2 z3 (by decide) (.inl rfl) o1.1 o3.1 o1.2 o3.2
          have v2 := sys_told c 34 [32, 115, 121, 115, 116, 101, 109, 32] a2.data.toList z1 z2 z3 (by decide) (.inl rfl) o1.2 o3.2
          rw [← e1] at v1
          rw [← e2] at v2
          have k0 : (⟨#[32]⟩ : ByteArray).size = 1 := rfl
          have k1 : (⟨#[32, 112, 117, 98, 108, 105, 99, 32]⟩ : ByteArray).size = 8 := rfl
          have k2 : (⟨#[32, 115, 121, 115, 116, 101, 109, 32]⟩ : ByteArray).size = 8 := rfl
          have k3 : (⟨#[34]⟩ : ByteArray).size = 1 := rfl
          have HR1 := fun w h => Lib.hid (dctParse_any (⟨#[32]⟩ ++ ⟨#[c]⟩ ++ ⟨#[32, 112, 117, 98, 108, 105, 99, 32]⟩ ++ ⟨#[34]⟩ ++ a1 ++ ⟨#[34]⟩ ++ ⟨#[34]⟩ ++ a2 ++ ⟨#[34]⟩) true w (by simp only [ByteArray.size_append]; omega) h)
          have HR2 := fun w h => Lib.hid (dctParse_any (⟨#[c]⟩ ++ ⟨#[32, 115, 121, 115, 116, 101, 109, 32]⟩ ++ ⟨#[34]⟩ ++ a2 ++ ⟨#[34]⟩ ++ ⟨#[32]⟩) true w (by simp only [ByteArray.size_append]; omega) h)
          rw [v1] at HR1
          rw [v2] at HR2
          unfold docV at HR1 HR2
          simp only [ht1, ht2] at HR1 HR2
          have g0 := HSZ.out (⟨#[32]⟩) (⟨#[c]⟩) (by first | (simp only [ByteArray.size_append]; omega) | omega) (by first | (simp only [ByteArray.size_append]; omega) | omega)
          have g1 := HSZ.out (⟨#[32]⟩ ++ ⟨#[c]⟩) (⟨#[32, 112, 117, 98, 108, 105, 99, 32]⟩) (by first | (simp only [ByteArray.size_append]; omega) | omega) (by first | (simp only [ByteArray.size_append]; omega) | omega)
          have g2 := HSZ.out (⟨#[32]⟩ ++ ⟨#[c]⟩ ++ ⟨#[32, 112, 117, 98, 108, 105, 99, 32]⟩) (⟨#[34]⟩) (by first | (simp only [ByteArray.size_append]; omega) | omega) (by first | (simp only [ByteArray.size_append]; omega) | omega)
          have g3 := HSZ.out (⟨#[32]⟩ ++ ⟨#[c]⟩ ++ ⟨#[32, 112, 117, 98, 108, 105, 99, 32]⟩ ++ ⟨#[34]⟩) (a1) (by first | (simp only [ByteArray.size_append]; omega) | omega) (by first | (simp only [ByteArray.size_append]; omega) | omega)
          have g4 := HSZ.out (⟨#[32]⟩ ++ ⟨#[c]⟩ ++ ⟨#[32, 112, 117, 98, 108, 105, 99, 32]⟩ ++ ⟨#[34]⟩ ++ a1) (⟨#[34]⟩) (by first | (simp only [ByteArray.size_append]; omega) | omega) (by first | (simp only [ByteArray.size_append]; omega) | omega)
          have g5 := HSZ.out (⟨#[32]⟩ ++ ⟨#[c]⟩ ++ ⟨#[32, 112, 117, 98, 108, 105, 99, 32]⟩ ++ ⟨#[34]⟩ ++ a1 ++ ⟨#[34]⟩) (⟨#[34]⟩) (by first | (simp only [ByteArray.size_append]; omega) | omega) (by first | (simp only [ByteArray.size_append]; omega) | omega)
          have g6 := HSZ.out (⟨#[32]⟩ ++ ⟨#[c]⟩ ++ ⟨#[32, 112, 117, 98, 108, 105, 99, 32]⟩ ++ ⟨#[34]⟩ ++ a1 ++ ⟨#[34]⟩ ++ ⟨#[34]⟩) (a2) (by first | (simp only [ByteArray.size_append]; omega) | omega) (by first | (simp only [ByteArray.size_append]; omega) | omega)
          have g7 := HSZ.out (⟨#[32]⟩ ++ ⟨#[c]⟩ ++ ⟨#[32, 112, 117, 98, 108, 105, 99, 32]⟩ ++ ⟨#[34]⟩ ++ a1 ++ ⟨#[34]⟩ ++ ⟨#[34]⟩ ++ a2) (⟨#[34]⟩) (by first | (simp only [ByteArray.size_append]; omega) | omega) (by first | (simp only [ByteArray.size_append]; omega) | omega)
          have g8 := HSZ.out (⟨#[c]⟩) (⟨#[32, 115, 121, 115, 116, 101, 109, 32]⟩) (by first | (simp only [ByteArray.size_append]; omega) | omega) (by first | (simp only [ByteArray.size_append]; omega) | omega)
          have g9 := HSZ.out (⟨#[c]⟩ ++ ⟨#[32, 115, 121, 115, 116, 101, 109, 32]⟩) (⟨#[34]⟩) (by first | (simp only [ByteArray.size_append]; omega) | omega) (by first | (simp only [ByteArray.size_append]; omega) | omega)
          have g10 := HSZ.out (⟨#[c]⟩ ++ ⟨#[32, 115, 121, 115, 116, 101, 109, 32]⟩ ++ ⟨#[34]⟩) (a2) (by first | (simp only [ByteArray.size_append]; omega) | omega) (by first | (simp only [ByteArray.size_append]; omega) | omega)
          have g11 := HSZ.out (⟨#[c]⟩ ++ ⟨#[32, 115, 121, 115, 116, 101, 109, 32]⟩ ++ ⟨#[34]⟩ ++ a2) (⟨#[34]⟩) (by first | (simp only [ByteArray.size_append]; omega) | omega) (by first | (simp only [ByteArray.size_append]; omega) | omega)
          have g12 := HSZ.out (⟨#[c]⟩ ++ ⟨#[32, 115, 121, 115, 116, 101, 109, 32]⟩ ++ ⟨#[34]⟩ ++ a2 ++ ⟨#[34]⟩) (⟨#[32]⟩) (by first | (simp only [ByteArray.size_append]; omega) | omega) (by first | (simp only [ByteArray.size_append]; omega) | omega)
          clear e1 e2 v1 v2 o1 o2 o3 z1 z2 z3 ht1 ht2 k0 k1 k2 k3 hcs
          go_wp2
          rw [oneByte _ _ _ H97.out]
          simp only [Result.andThen]
          rw [Oper.upon_value]
          have B1 := Lib.hid (below_new c1 (.cells #[.int .u8 (97 + a0 % 26)] 5))
          go_wp2_with (fail)
          refine (HR1 _ (HW.out.below B1.out)).out.mono ?_
          rintro e w2 ⟨rfl, c2⟩
          have C2 := Lib.hid (B1.out.trans (c2.mono B1.out.size))
          clear c2
          go_wp2_with (fail)
          have B3 := Lib.hid (below_new C2.out (.cells #[.string ⟨#[c]⟩, .string a1, .string a2, .bool true, .bool true, .bool true, .bool false] 31))
          have R2 := Lib.hid (heap_alloc_new w2 (.cells #[.string ⟨#[c]⟩, .string a1, .string a2, .bool true, .bool true, .bool true, .bool false] 31))
          refine (HR2 _ (HW.out.below B3.out)).out.mono ?_
          rintro e w3 ⟨rfl, c3⟩
          have R3 := Lib.hid ((c3.block _ (by simp)).trans R2.out)
          have B4 := Lib.hid (B3.out.trans (c3.mono B3.out.size))
          have hlt3 : w2.heap.size < w3.heap.size := by have := c3.size; simp at this; omega
          clear c3
          have R5 := Lib.hid ((((Below.refl _ w3).alloc (Nat.le_refl _) (.cells #[.string ⟨#[c]⟩, .string ⟨#[]⟩, .string a2, .bool true, .bool false, .bool true, .bool false] 31)).block _ hlt3).trans R3.out)
          obtain ⟨x0, x1, x2, x3, x4, x5, x6⟩ := HCE.out _ _ _ _ _ _ _ _ _ R5.out
          go_wp2
          go_ret
          exact ⟨ret_bool (by simp), below_new B4.out _⟩
        · have e1 : (⟨#[32]⟩ ++ ⟨#[c]⟩ ++ ⟨#[10, 80, 85, 66, 76, 73, 67]⟩ ++ ⟨#[34]⟩ ++ a1 ++ ⟨#[34]⟩ ++ ⟨#[34]⟩ ++ a2 ++ ⟨#[34]⟩ : ByteArray).data.toList = [32] ++ [c] ++ [10, 80, 85, 66, 76, 73, 67] ++ [34] ++ a1.data.toList ++ [34] ++ [34] ++ a2.data.toList ++ [34] := by
            simp only [ByteArray.data_append, Array.toList_append]
          have e2 : (⟨#[c]⟩ ++ ⟨#[9, 83, 89, 83, 84, 69, 77]⟩ ++ ⟨#[34]⟩ ++ a2 ++ ⟨#[34]⟩ ++ ⟨#[32]⟩ : ByteArray).data.toList = [c] ++ [9, 83, 89, 83, 84, 69, 77] ++ [34] ++ a2.data.toList ++ [34] ++ [32] := by
            simp only [ByteArray.data_append, Array.toList_append]
          have v1 := pub_told c 34 [10, 80, 85, 66, 76, 73, 67] a1.data.toList a2.data.toList z1 z2 z3 (by decide) (.inr rfl) o1.1 o3.1 o1.2 o3.2
          have v2 := sys_told c 34 [9, 83, 89, 83, 84, 69, 77] a2.data.toList z1 z2 z3 (by decide) (.inr rfl) o1.2 o3.2
          rw [← e1] at v1
          rw [← e2] at v2
          have k0 : (⟨#[32]⟩ : ByteArray).size = 1 := rfl
          have k1 : (⟨#[10, 80, 85, 66, 76, 73, 67]⟩ : ByteArray).size = 7 := rfl
          have k2 : (⟨#[9, 83, 89, 83, 84, 69, 77]⟩ : ByteArray).size = 7 := rfl
          have k3 : (⟨#[34]⟩ : ByteArray).size = 1 := rfl
          have HR1 := fun w h => Lib.hid (dctParse_any (⟨#[32]⟩ ++ ⟨#[c]⟩ ++ ⟨#[10, 80, 85, 66, 76, 73, 67]⟩ ++ ⟨#[34]⟩ ++ a1 ++ ⟨#[34]⟩ ++ ⟨#[34]⟩ ++ a2 ++ ⟨#[34]⟩) true w (by simp only [ByteArray.size_append]; omega) h)
          have HR2 := fun w h => Lib.hid (dctParse_any (⟨#[c]⟩ ++ ⟨#[9, 83, 89, 83, 84, 69, 77]⟩ ++ ⟨#[34]⟩ ++ a2 ++ ⟨#[34]⟩ ++ ⟨#[32]⟩) true w (by simp only [ByteArray.size_append]; omega) h)
          rw [v1] at HR1
          rw [v2] at HR2
          unfold docV at HR1 HR2
          simp only [ht1, ht2] at HR1 HR2
          have g0 := HSZ.out (⟨#[32]⟩) (⟨#[c]⟩) (by first | (simp only [ByteArray.size_append]; omega) | omega) (by first | (simp only [ByteArray.size_append]; omega) | omega)
          have g1 := HSZ.out (⟨#[32]⟩ ++ ⟨#[c]⟩) (⟨#[10, 80, 85, 66, 76, 73, 67]⟩) (by first | (simp only [ByteArray.size_append]; omega) | omega) (by first | (simp only [ByteArray.size_append]; omega) | omega)
          have g2 := HSZ.out (⟨#[32]⟩ ++ ⟨#[c]⟩ ++ ⟨#[10, 80, 85, 66, 76, 73, 67]⟩) (⟨#[34]⟩) (by first | (simp only [ByteArray.size_append]; omega) | omega) (by first | (simp only [ByteArray.size_append]; omega) | omega)
          have g3 := HSZ.out (⟨#[32]⟩ ++ ⟨#[c]⟩ ++ ⟨#[10, 80, 85, 66, 76, 73, 67]⟩ ++ ⟨#[34]⟩) (a1) (by first | (simp only [ByteArray.size_append]; omega) | omega) (by first | (simp only [ByteArray.size_append]; omega) | omega)
          have g4 := HSZ.out (⟨#[32]⟩ ++ ⟨#[c]⟩ ++ ⟨#[10, 80, 85, 66, 76, 73, 67]⟩ ++ ⟨#[34]⟩ ++ a1) (⟨#[34]⟩) (by first | (simp only [ByteArray.size_append]; omega) | omega) (by first | (simp only [ByteArray.size_append]; omega) | omega)
          have g5 := HSZ.out (⟨#[32]⟩ ++ ⟨#[c]⟩ ++ ⟨#[10, 80, 85, 66, 76, 73, 67]⟩ ++ ⟨#[34]⟩ ++ a1 ++ ⟨#[34]⟩) (⟨#[34]⟩) (by first | (simp only [ByteArray.size_append]; omega) | omega) (by first | (simp only [ByteArray.size_append]; omega) | omega)
          have g6 := HSZ.out (⟨#[32]⟩ ++ ⟨#[c]⟩ ++ ⟨#[10, 80, 85, 66, 76, 73, 67]⟩ ++ ⟨#[34]⟩ ++ a1 ++ ⟨#[34]⟩ ++ ⟨#[34]⟩) (a2) (by first | (simp only [ByteArray.size_append]; omega) | omega) (by first | (simp only [ByteArray.size_append]; omega) | omega)
          have g7 := HSZ.out (⟨#[32]⟩ ++ ⟨#[c]⟩ ++ ⟨#[10, 80, 85, 66, 76, 73, 67]⟩ ++ ⟨#[34]⟩ ++ a1 ++ ⟨#[34]⟩ ++ ⟨#[34]⟩ ++ a2) (⟨#[34]⟩) (by first | (simp only [ByteArray.size_append]; omega) | omega) (by first | (simp only [ByteArray.size_append]; omega) | omega)
          have g8 := HSZ.out (⟨#[c]⟩) (⟨#[9, 83, 89, 83, 84, 69, 77]⟩) (by first | (simp only [ByteArray.size_append]; omega) | omega) (by first | (simp only [ByteArray.size_append]; omega) | omega)
          have g9 := HSZ.out (⟨#[c]⟩ ++ ⟨#[9, 83, 89, 83, 84, 69, 77]⟩) (⟨#[34]⟩) (by first | (simp only [ByteArray.size_append]; omega) | omega) (by first | (simp only [ByteArray.size_append]; omega) | omega)
          have g10 := HSZ.out (⟨#[c]⟩ ++ ⟨#[9, 83, 89, 83, 84, 69, 77]⟩ ++ ⟨#[34]⟩) (a2) (by first | (simp only [ByteArray.size_append]; omega) | omega) (by first | (simp only [ByteArray.size_append]; omega) | omega)
          have g11 := HSZ.out (⟨#[c]⟩ ++ ⟨#[9, 83, 89, 83, 84, 69, 77]⟩ ++ ⟨#[34]⟩ ++ a2) (⟨#[34]⟩) (by first | (simp only [ByteArray.size_append]; omega) | omega) (by first | (simp only [ByteArray.size_append]; omega) | omega)
          have g12 := HSZ.out (⟨#[c]⟩ ++ ⟨#[9, 83, 89, 83, 84, 69, 77]⟩ ++ ⟨#[34]⟩ ++ a2 ++ ⟨#[34]⟩) (⟨#[32]⟩) (by first | (simp only [ByteArray.size_append]; omega) | omega) (by first | (simp only [ByteArray.size_append]; omega) | omega)
          clear e1 e2 v1 v2 o1 o2 o3 z1 z2 z3 ht1 ht2 k0 k1 k2 k3 hcs
          go_wp2
          rw [oneByte _ _ _ H97.out]
          simp only [Result.andThen]
          rw [Oper.upon_value]
          have B1 := Lib.hid (below_new c1 (.cells #[.int .u8 (97 + a0 % 26)] 5))
          go_wp2_with (fail)
          refine (HR1 _ (HW.out.below B1.out)).out.mono ?_
          rintro e w2 ⟨rfl, c2⟩
          have C2 := Lib.hid (B1.out.trans (c2.mono B1.out.size))
          clear c2
          go_wp2_with (fail)
          have B3 := Lib.hid (below_new C2.out (.cells #[.string ⟨#[c]⟩, .string a1, .string a2, .bool true, .bool true, .bool true, .bool false] 31))
          have R2 := Lib.hid (heap_alloc_new w2 (.cells #[.string ⟨#[c]⟩, .string a1, .string a2, .bool true, .bool true, .bool true, .bool false] 31))
          refine (HR2 _ (HW.out.below B3.out)).out.mono ?_
          rintro e w3 ⟨rfl, c3⟩
          have R3 := Lib.hid ((c3.block _ (by simp)).trans R2.out)
          have B4 := Lib.hid (B3.out.trans (c3.mono B3.out.size))
          have hlt3 : w2.heap.size < w3.heap.size := by have := c3.size; simp at this; omega
          clear c3
          have R5 := Lib.hid ((((Below.refl _ w3).alloc (Nat.le_refl _) (.cells #[.string ⟨#[c]⟩, .string ⟨#[]⟩, .string a2, .bool true, .bool false, .bool true, .bool false] 31)).block _ hlt3).trans R3.out)
          obtain ⟨x0, x1, x2, x3, x4, x5, x6⟩ := HCE.out _ _ _ _ _ _ _ _ _ R5.out
          go_wp2
          go_ret
          exact ⟨ret_bool (by simp), below_new B4.out _⟩
      · cases a3
        · have e1 : (⟨#[32]⟩ ++ ⟨#[c]⟩ ++ ⟨#[32, 112, 117, 98, 108, 105, 99, 32]⟩ ++ ⟨#[39]⟩ ++ a1 ++ ⟨#[39]⟩ ++ ⟨#[39]⟩ ++ a2 ++ ⟨#[39]⟩ : ByteArray).data.toList = [32] ++ [c] ++ [32, 112, 117, 98, 108, 105, 99, 32] ++ [39] ++ a1.data.toList ++ [39] ++ [39] ++ a2.data.toList ++ [39] := by
            simp only [ByteArray.data_append, Array.toList_append]
          have e2 : (⟨#[c]⟩ ++ ⟨#[32, 115, 121, 115, 116, 101, 109, 32]⟩ ++ ⟨#[39]⟩ ++ a2 ++ ⟨#[39]⟩ ++ ⟨#[32]⟩ : ByteArray).data.toList = [c] ++ [32, 115, 121, 115, 116, 101, 109, 32] ++ [39] ++ a2.data.toList ++ [39] ++ [32] := by
            simp only [ByteArray.data_append, Array.toList_append]
          have v1 := pub_told c 39 [32, 112, 117, 98, 108, 105, 99, 32] a1.data.toList a2.data.toList z1 z2 z3 (by decide) (.inl rfl) o2.1 o3.1 o2.2 o3.2
          have v2 := sys_told c 39 [32, 115, 121, 115, 116, 101, 109, 32] a2.data.toList z1 z2 z3 (by decide) (.inl rfl) o2.2 o3.2
          rw [← e1] at v1
          rw [← e2] at v2
          have k0 : (⟨#[32]⟩ : ByteArray).size = 1 := rfl
          have k1 : (⟨#[32, 112, 117, 98, 108, 105, 99, 32]⟩ : ByteArray).size = 8 := rfl
          have k2 : (⟨#[32, 115, 121, 115, 116, 101, 109, 32]⟩ : ByteArray).size = 8 := rfl
          have k3 : (⟨#[39]⟩ : ByteArray).size = 1 := rfl
          have HR1 := fun w h => Lib.hid (dctParse_any (⟨#[32]⟩ ++ ⟨#[c]⟩ ++ ⟨#[32, 112, 117, 98, 108, 105, 99, 32]⟩ ++ ⟨#[39]⟩ ++ a1 ++ ⟨#[39]⟩ ++ ⟨#[39]⟩ ++ a2 ++ ⟨#[39]⟩) true w (by simp only [ByteArray.size_append]; omega) h)
          have HR2 := fun w h => Lib.hid (dctParse_any (⟨#[c]⟩ ++ ⟨#[32, 115, 121, 115, 116, 101, 109, 32]⟩ ++ ⟨#[39]⟩ ++ a2 ++ ⟨#[39]⟩ ++ ⟨#[32]⟩) true w (by simp only [ByteArray.size_append]; omega) h)
          rw [v1] at HR1
          rw [v2] at HR2
          unfold docV at HR1 HR2
          simp only [ht1, ht2] at HR1 HR2
          have g0 := HSZ.out (⟨#[32]⟩) (⟨#[c]⟩) (by first | (simp only [ByteArray.size_append]; omega) | omega) (by first | (simp only [ByteArray.size_append]; omega) | omega)
          have g1 := HSZ.out (⟨#[32]⟩ ++ ⟨#[c]⟩) (⟨#[32, 112, 117, 98, 108, 105, 99, 32]⟩) (by first | (simp only [ByteArray.size_append]; omega) | omega) (by first | (simp only [ByteArray.size_append]; omega) | omega)
          have g2 := HSZ.out (⟨#[32]⟩ ++ ⟨#[c]⟩ ++ ⟨#[32, 112, 117, 98, 108, 105, 99, 32]⟩) (⟨#[39]⟩) (by first | (simp only [ByteArray.size_append]; omega) | omega) (by first | (simp only [ByteArray.size_append]; omega) | omega)
          have g3 := HSZ.out (⟨#[32]⟩ ++ ⟨#[c]⟩ ++ ⟨#[32, 112, 117, 98, 108, 105, 99, 32]⟩ ++ ⟨#[39]⟩) (a1) (by first | (simp only [ByteArray.size_append]; omega) | omega) (by first | (simp only [ByteArray.size_append]; omega) | omega)
          have g4 := HSZ.out (⟨#[32]⟩ ++ ⟨#[c]⟩ ++ ⟨#[32, 112, 117, 98, 108, 105, 99, 32]⟩ ++ ⟨#[39]⟩ ++ a1) (⟨#[39]⟩) (by first | (simp only [ByteArray.size_append]; omega) | omega) (by first | (simp only [ByteArray.size_append]; omega) | omega)
          have g5 := HSZ.out (⟨#[32]⟩ ++ ⟨#[c]⟩ ++ ⟨#[32, 112, 117, 98, 108, 105, 99, 32]⟩ ++ ⟨#[39]⟩ ++ a1 ++ ⟨#[39]⟩) (⟨#[39]⟩) (by first | (simp only [ByteArray.size_append]; omega) | omega) (by first | (simp only [ByteArray.size_append]; omega) | omega)
          have g6 := HSZ.out (⟨#[32]⟩ ++ ⟨#[c]⟩ ++ ⟨#[32, 112, 117, 98, 108, 105, 99, 32]⟩ ++ ⟨#[39]⟩ ++ a1 ++ ⟨#[39]⟩ ++ ⟨#[39]⟩) (a2) (by first | (simp only [ByteArray.size_append]; omega) | omega) (by first | (simp only [ByteArray.size_append]; omega) | omega)
          have g7 := HSZ.out (⟨#[32]⟩ ++ ⟨#[c]⟩ ++ ⟨#[32, 112, 117, 98, 108, 105, 99, 32]⟩ ++ ⟨#[39]⟩ ++ a1 ++ ⟨#[39]⟩ ++ ⟨#[39]⟩ ++ a2) (⟨#[39]⟩) (by first | (simp only [ByteArray.size_append]; omega) | omega) (by first | (simp only [ByteArray.size_append]; omega) | omega)
          have g8 := HSZ.out (⟨#[c]⟩) (⟨#[32, 115, 121, 115, 116, 101, 109, 32]⟩) (by first | (simp only [ByteArray.size_append]; omega) | omega) (by first | (simp only [ByteArray.size_append]; omega) | omega)
          have g9 := HSZ.out (⟨#[c]⟩ ++ ⟨#[32, 115, 121, 115, 116, 101, 109, 32]⟩) (⟨#[39]⟩) (by first | (simp only [ByteArray.size_append]; omega) | omega) (by first | (simp only [ByteArray.size_append]; omega) | omega)
          have g10 := HSZ.out (⟨#[c]⟩ ++ ⟨#[32, 115, 121, 115, 116, 101, 109, 32]⟩ ++ ⟨#[39]⟩) (a2) (by first | (simp only [ByteArray.size_append]; omega) | omega) (by first | (simp only [ByteArray.size_append]; omega) | omega)
          have g11 := HSZ.out (⟨#[c]⟩ ++ ⟨#[32, 115, 121, 115, 116, 101, 109, 32]⟩ ++ ⟨#[39]⟩ ++ a2) (⟨#[39]⟩) (by first | (simp only [ByteArray.size_append]; omega) | omega) (by first | (simp only [ByteArray.size_append]; omega) | omega)
          have g12 := HSZ.out (⟨#[c]⟩ ++ ⟨#[32, 115, 121, 115, 116, 101, 109, 32]⟩ ++ ⟨#[39]⟩ ++ a2 ++ ⟨#[39]⟩) (⟨#[32]⟩) (by first | (simp only [ByteArray.size_append]; omega) | omega) (by first | (simp only [ByteArray.size_append]; omega) | omega)
          clear e1 e2 v1 v2 o1 o2 o3 z1 z2 z3 ht1 ht2 k0 k1 k2 k3 hcs
          go_wp2
          rw [oneByte _ _ _ H97.out]
          simp only [Result.andThen]
          rw [Oper.upon_value]
          have B1 := Lib.hid (below_new c1 (.cells #[.int .u8 (97 + a0 % 26)] 5))
          go_wp2_with (fail)
          refine (HR1 _ (HW.out.below B1.out)).out.mono ?_
          rintro e w2 ⟨rfl, c2⟩
          have C2 := Lib.hid (B1.out.trans (c2.mono B1.out.size))
          clear c2
          go_wp2_with (fail)
          have B3 := Lib.hid (below_new C2.out (.cells #[.string ⟨#[c]⟩, .string a1, .string a2, .bool true, .bool true, .bool true, .bool false] 31))
          have R2 := Lib.hid (heap_alloc_new w2 (.cells #[.string ⟨#[c]⟩, .string a1, .string a2, .bool true, .bool true, .bool true, .bool false] 31))
          refine (HR2 _ (HW.out.below B3.out)).out.mono ?_
          rintro e w3 ⟨rfl, c3⟩
          have R3 := Lib.hid ((c3.block _ (by simp)).trans R2.out)
          have B4 := Lib.hid (B3.out.trans (c3.mono B3.out.size))
          have hlt3 : w2.heap.size < w3.heap.size := by have := c3.size; simp at this; omega
          clear c3
          have R5 := Lib.hid ((((Below.refl _ w3).alloc (Nat.le_refl _) (.cells #[.string ⟨#[c]⟩, .string ⟨#[]⟩, .string a2, .bool true, .bool false, .bool true, .bool false] 31)).block _ hlt3).trans R3.out)
          obtain ⟨x0, x1, x2, x3, x4, x5, x6⟩ := HCE.out _ _ _ _ _ _ _ _ _ R5.out
          go_wp2
          go_ret
          exact ⟨ret_bool (by simp), below_new B4.out _⟩
        · have e1 : (⟨#[32]⟩ ++ ⟨#[c]⟩ ++ ⟨#[10, 80, 85, 66, 76, 73, 67]⟩ ++ ⟨#[39]⟩ ++ a1 ++ ⟨#[39]⟩ ++ ⟨#[39]⟩ ++ a2 ++ ⟨#[39]⟩ : ByteArray).data.toList = [32] ++ [c] ++ [10, 80, 85, 66, 76, 73, 67] ++ [39] ++ a1.data.toList ++ [39] ++ [39] ++ a2.data.toList ++ [39] := by
            simp only [ByteArray.data_append, Array.toList_append]
          have e2 : (⟨#[c]⟩ ++ ⟨#[9, 83, 89, 83, 84, 69, 77]⟩ ++ ⟨#[39]⟩ ++ a2 ++ ⟨#[39]⟩ ++ ⟨#[32]⟩ : ByteArray).data.toList = [c] ++ [9, 83, 89, 83, 84, 69, 77] ++ [39] ++ a2.data.toList ++ [39] ++ [32] := by
            simp only [ByteArray.data_append, Array.toList_append]
          have v1 := pub_told c 39 [10, 80, 85, 66, 76, 73, 67] a1.data.toList a2.data.toList z1 z2 z3 (by decide) (.inr rfl) o2.1 o3.1 o2.2 o3.2
          have v2 := sys_told c 39 [9, 83, 89, 83, 84, 69, 77] a2.data.toList z1 z2 z3 (by decide) (.inr rfl) o2.2 o3.2
          rw [← e1] at v1
          rw [← e2] at v2
          have k0 : (⟨#[32]⟩ : ByteArray).size = 1 := rfl
          have k1 : (⟨#[10, 80, 85, 66, 76, 73, 67]⟩ : ByteArray).size = 7 := rfl
          have k2 : (⟨#[9, 83, 89, 83, 84, 69, 77]⟩ : ByteArray).size = 7 := rfl
          have k3 : (⟨#[39]⟩ : ByteArray).size = 1 := rfl
          have HR1 := fun w h => Lib.hid (dctParse_any (⟨#[32]⟩ ++ ⟨#[c]⟩ ++ ⟨#[10, 80, 85, 66, 76, 73, 67]⟩ ++ ⟨#[39]⟩ ++ a1 ++ ⟨#[39]⟩ ++ ⟨#[39]⟩ ++ a2 ++ ⟨#[39]⟩) true w (by simp only [ByteArray.size_append]; omega) h)
          have HR2 := fun w h => Lib.hid (dctParse_any (⟨#[c]⟩ ++ ⟨#[9, 83, 89, 83, 84, 69, 77]⟩ ++ ⟨#[39]⟩ ++ a2 ++ ⟨#[39]⟩ ++ ⟨#[32]⟩) true w (by simp only [ByteArray.size_append]; omega) h)
          rw [v1] at HR1
          rw [v2] at HR2
          unfold docV at HR1 HR2
          simp only [ht1, ht2] at HR1 HR2
          have g0 := HSZ.out (⟨#[32]⟩) (⟨#[c]⟩) (by first | (simp only [ByteArray.size_append]; omega) | omega) (by first | (simp only [ByteArray.size_append]; omega) | omega)
          have g1 := HSZ.out (⟨#[32]⟩ ++ ⟨#[c]⟩) (⟨#[10, 80, 85, 66, 76, 73, 67]⟩) (by first | (simp only [ByteArray.size_append]; omega) | omega) (by first | (simp only [ByteArray.size_append]; omega) | omega)
          have g2 := HSZ.out (⟨#[32]⟩ ++ ⟨#[c]⟩ ++ ⟨#[10, 80, 85, 66, 76, 73, 67]⟩) (⟨#[39]⟩) (by first | (simp only [ByteArray.size_append]; omega) | omega) (by first | (simp only [ByteArray.size_append]; omega) | omega)
          have g3 := HSZ.out (⟨#[32]⟩ ++ ⟨#[c]⟩ ++ ⟨#[10, 80, 85, 66, 76, 73, 67]⟩ ++ ⟨#[39]⟩) (a1) (by first | (simp only [ByteArray.size_append]; omega) | omega) (by first | (simp only [ByteArray.size_append]; omega) | omega)
          have g4 := HSZ.out (⟨#[32]⟩ ++ ⟨#[c]⟩ ++ ⟨#[10, 80, 85, 66, 76, 73, 67]⟩ ++ ⟨#[39]⟩ ++ a1) (⟨#[39]⟩) (by first | (simp only [ByteArray.size_append]; omega) | omega) (by first | (simp only [ByteArray.size_append]; omega) | omega)
          have g5 := HSZ.out (⟨#[32]⟩ ++ ⟨#[c]⟩ ++ ⟨#[10, 80, 85, 66, 76, 73, 67]⟩ ++ ⟨#[39]⟩ ++ a1 ++ ⟨#[39]⟩) (⟨#[39]⟩) (by first | (simp only [ByteArray.size_append]; omega) | omega) (by first | (simp only [ByteArray.size_append]; omega) | omega)
          have g6 := HSZ.out (⟨#[32]⟩ ++ ⟨#[c]⟩ ++ ⟨#[10, 80, 85, 66, 76, 73, 67]⟩ ++ ⟨#[39]⟩ ++ a1 ++ ⟨#[39]⟩ ++ ⟨#[39]⟩) (a2) (by first | (simp only [ByteArray.size_append]; omega) | omega) (by first | (simp only [ByteArray.size_append]; omega) | omega)
          have g7 := HSZ.out (⟨#[32]⟩ ++ ⟨#[c]⟩ ++ ⟨#[10, 80, 85, 66, 76, 73, 67]⟩ ++ ⟨#[39]⟩ ++ a1 ++ ⟨#[39]⟩ ++ ⟨#[39]⟩ ++ a2) (⟨#[39]⟩) (by first | (simp only [ByteArray.size_append]; omega) | omega) (by first | (simp only [ByteArray.size_append]; omega) | omega)
          have g8 := HSZ.out (⟨#[c]⟩) (⟨#[9, 83, 89, 83, 84, 69, 77]⟩) (by first | (simp only [ByteArray.size_append]; omega) | omega) (by first | (simp only [ByteArray.size_append]; omega) | omega)
          have g9 := HSZ.out (⟨#[c]⟩ ++ ⟨#[9, 83, 89, 83, 84, 69, 77]⟩) (⟨#[39]⟩) (by first | (simp only [ByteArray.size_append]; omega) | omega) (by first | (simp only [ByteArray.size_append]; omega) | omega)
          have g10 := HSZ.out (⟨#[c]⟩ ++ ⟨#[9, 83, 89, 83, 84, 69, 77]⟩ ++ ⟨#[39]⟩) (a2) (by first | (simp only [ByteArray.size_append]; omega) | omega) (by first | (simp only [ByteArray.size_append]; omega) | omega)
          have g11 := HSZ.out (⟨#[c]⟩ ++ ⟨#[9, 83, 89, 83, 84, 69, 77]⟩ ++ ⟨#[39]⟩ ++ a2) (⟨#[39]⟩) (by first | (simp only [ByteArray.size_append]; omega) | omega) (by first | (simp only [ByteArray.size_append]; omega) | omega)
          have g12 := HSZ.out (⟨#[c]⟩ ++ ⟨#[9, 83, 89, 83, 84, 69, 77]⟩ ++ ⟨#[39]⟩ ++ a2 ++ ⟨#[39]⟩) (⟨#[32]⟩) (by first | (simp only [ByteArray.size_append]; omega) | omega) (by first | (simp only [ByteArray.size_append]; omega) | omega)
          clear e1 e2 v1 v2 o1 o2 o3 z1 z2 z3 ht1 ht2 k0 k1 k2 k3 hcs
          go_wp2
          rw [oneByte _ _ _ H97.out]
          simp only [Result.andThen]
          rw [Oper.upon_value]
          have B1 := Lib.hid (below_new c1 (.cells #[.int .u8 (97 + a0 % 26)] 5))
          go_wp2_with (fail)
          refine (HR1 _ (HW.out.below B1.out)).out.mono ?_
          rintro e w2 ⟨rfl, c2⟩
          have C2 := Lib.hid (B1.out.trans (c2.mono B1.out.size))
          clear c2
          go_wp2_with (fail)
          have B3 := Lib.hid (below_new C2.out (.cells #[.string ⟨#[c]⟩, .string a1, .string a2, .bool true, .bool true, .bool true, .bool false] 31))
          have R2 := Lib.hid (heap_alloc_new w2 (.cells #[.string ⟨#[c]⟩, .string a1, .string a2, .bool true, .bool true, .bool true, .bool false] 31))
          refine (HR2 _ (HW.out.below B3.out)).out.mono ?_
          rintro e w3 ⟨rfl, c3⟩
          have R3 := Lib.hid ((c3.block _ (by simp)).trans R2.out)
          have B4 := Lib.hid (B3.out.trans (c3.mono B3.out.size))
          have hlt3 : w2.heap.size < w3.heap.size := by have := c3.size; simp at this; omega
          clear c3
          have R5 := Lib.hid ((((Below.refl _ w3).alloc (Nat.le_refl _) (.cells #[.string ⟨#[c]⟩, .string ⟨#[]⟩, .string a2, .bool true, .bool false, .bool true, .bool false] 31)).block _ hlt3).trans R3.out)
          obtain ⟨x0, x1, x2, x3, x4, x5, x6⟩ := HCE.out _ _ _ _ _ _ _ _ _ R5.out
          go_wp2
          go_ret
          exact ⟨ret_bool (by simp), below_new B4.out _⟩
  -- go_wp2
  -- go_ret
  -- exact ⟨rfl, by repeat (first | exact Grown.refl _ | apply Grown.drew | apply Grown.alloc)⟩

set_option maxRecDepth 100000 in
theorem lifted (os : Os) (started : os.Started) (H : Type) (enc : TypeId × Value → H) :
    ReturnsInHanded {} Try.checked os 6 .any (Rows.doctypeWrittenSpec.pre6 enc Try.prog Try.f6 Rows.doctypeWrittenRow.domain false) (Rows.doctypeWrittenSpec.post enc Try.prog Try.f6 false true false false) := by
  refine returnsInHanded_of_change (C := Try.checked) own started (by kernel_rfl) Try.func6
    (ChangeSpec.witness6 (enc := enc) (C := Try.checked) false ⟨#[], #[.int .u8 0, .string ByteArray.empty, .string ByteArray.empty, .bool false, .bool false], []⟩ 8 (by kernel_rfl) (by kernel_rfl) (by kernel_rfl) (by kernel_rfl)) ?_
  intro W base args ds gs before hval0 hW hcnd _
  have hval : ∀ (j : Nat) t v, Try.f6.params[j]? = some t → args[j]? = some v → Value.okWide Try.prog W .any base t v := hval0
  have hW' := hW
  obtain ⟨p, q, hA0, hV, rfl, hfz, hnd⟩ := hW
  have hA : DataW.TrodAll enc Try.prog W 0 (fun _ => true) true Try.f6.params.toList args.toList ds p := hA0
  rw [Try.params6] at hA hval
  obtain ⟨v0, vs0, d0, ds0, p0, q0, hargs, rfl, rfl, h0, r0⟩ := trodAll_cons hA
  obtain ⟨v1, vs1, d1, ds1, p1, q1, rfl, rfl, rfl, h1, r1⟩ := trodAll_cons r0
  obtain ⟨v2, vs2, d2, ds2, p2, q2, rfl, rfl, rfl, h2, r2⟩ := trodAll_cons r1
  obtain ⟨v3, vs3, d3, ds3, p3, q3, rfl, rfl, rfl, h3, r3⟩ := trodAll_cons r2
  obtain ⟨v4, vs4, d4, ds4, p4, q4, rfl, rfl, rfl, h4, r4⟩ := trodAll_cons r3
  obtain ⟨rfl, rfl, rfl⟩ := trodAll_nil r4
  obtain rfl : args = #[v0, v1, v2, v3, v4] := by cases args; simp_all
  obtain ⟨rfl, rfl⟩ := trodVars_none hV
  obtain ⟨a0, rfl, rfl, rfl, w0⟩ := open_int Try.underlying5 (hval 0 5 v0 rfl rfl) h0
  obtain ⟨a1, rfl, rfl, rfl, w1⟩ := open_string Try.underlying9 (hval 1 9 v1 rfl rfl) h1
  obtain ⟨a2, rfl, rfl, rfl, w2⟩ := open_string Try.underlying9 (hval 2 9 v2 rfl rfl) h2
  obtain ⟨a3, rfl, rfl, rfl⟩ := open_bool Try.underlying4 (hval 3 4 v3 rfl rfl) h3
  obtain ⟨a4, rfl, rfl, rfl⟩ := open_bool Try.underlying4 (hval 4 4 v4 rfl rfl) h4
  clear hA0 hval0
  refine (walk a0 a1 a2 a3 a4 w0 w1 w2 W).mono fun e W' ⟨he, bel⟩ => ?_
  subst he
  exact ⟨_, rfl, _, _, _, [], _, [], hW', trodAll_mk1 (shut_bool Try.underlying4 _), (trodAll_cons_mk (shut_int Try.underlying5 w0) (trodAll_cons_mk (shut_string Try.underlying9 w1) (trodAll_cons_mk (shut_string Try.underlying9 w2) (trodAll_cons_mk (shut_bool Try.underlying4 _) (trodAll_cons_mk (shut_bool Try.underlying4 _) trodAll_mk0))))), rfl, bel.frame _, fun h => by cases h⟩

theorem over : Rows.doctypeWrittenRow.holds Try.pinned (OpenSpec.ofChange Rows.doctypeWrittenSpec) :=
  OpenClaim.holds_of_wide 6 Try.f6 rfl rfl rfl rfl rfl rfl rfl ⟨rfl, rfl, rfl, rfl, rfl⟩ rfl rfl rfl rfl rfl (by kernel_rfl) Try.func6 (by kernel_rfl)
    (of_decide_eq_true (by kernel_rfl)) (by unfold Func.isWrapper; first | (rw [if_pos (by decide +kernel)]; kernel_rfl) | (rw [if_neg (by decide +kernel)]; exact ⟨rfl, rfl⟩))
    (fun os started H enc _ => lifted os started H enc)

/-- ████ THE STATEMENT ████ -/
theorem proved : Rows.DoctypeWrittenSaid :=
  over
end Go.Proofs.Ytbceopiipigljaa.doctypeWritten
