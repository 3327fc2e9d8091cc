/-
  Where comments end: what package comment's plainEnd and markedEnd answer.
-/
import Derived.Test.YtjcmpmijbngjnaaComEnds
import Derived.Test.YtjcmpmijbngjnaaComRefB
import Derived.Test.YtjcmpmijbngjnaaP3
import Derived.Deep.RegionHeld3
namespace Go.Proofs.Ytjcmpmijbngjnaa
open Go.RowKit Go.Lib

/-- where a text of a comment ends, told by how long it is -/
theorem scan_pre : ∀ (l x : Txt) (n : Nat), scanC l = some (x, n) → x = l.take x.length
  | [], x, n, h => by cases h
  | c :: t, x, n, h => by
    rw [scanC] at h
    split at h
    · simp only [Option.some.injEq, Prod.mk.injEq] at h
      obtain ⟨rfl, -⟩ := h; rfl
    · split at h
      · simp only [Option.some.injEq, Prod.mk.injEq] at h
        obtain ⟨rfl, -⟩ := h; rfl
      · cases hr : scanC t with
        | none => rw [hr] at h; cases h
        | some y =>
          obtain ⟨y, m⟩ := y
          rw [hr] at h
          simp only [Option.map_some, Option.some.injEq, Prod.mk.injEq] at h
          obtain ⟨rfl, -⟩ := h
          rw [List.length_cons, List.take_succ_cons, ← scan_pre t y m hr]
theorem tail_pre (l : Txt) : tailC l = l.take (tailC l).length := by
  have key : ∀ k, l.take k = l.take (l.take k).length := fun k => List.prefix_iff_eq_take.1 (List.take_prefix k l)
  unfold tailC
  split
  · exact key _
  · split
    · exact key _
    · split
      · exact key _
      · rw [List.take_length]
theorem plain_pre (l : Txt) : (plainC l).1 = l.take (plainC l).1.length := by
  unfold plainC
  split
  · rfl
  · split
    · rfl
    · cases h : scanC l with
      | none => exact tail_pre l
      | some r => exact scan_pre l r.1 r.2 h
/-- the ends that are held against a place -/
theorem st_short (l : Txt) : stN [62] [45, 62] l = 1 ∧ plainC l = ([], 1) ∨ stN [62] [45, 62] l = 2 ∧ plainC l = ([], 2) ∨ stN [62] [45, 62] l = 0 ∧ plainC l = (match scanC l with | some r => r | none => (tailC l, l.length)) := by
  unfold stN plainC
  by_cases h1 : [62].isPrefixOf l = true
  · rw [if_pos h1, if_pos h1]; exact .inl ⟨rfl, rfl⟩
  · rw [if_neg h1, if_neg h1]
    by_cases h2 : [45, 62].isPrefixOf l = true
    · rw [if_pos h2, if_pos h2]; exact .inr (.inl ⟨rfl, rfl⟩)
    · rw [if_neg h2, if_neg h2]; exact .inr (.inr ⟨rfl, rfl⟩)
theorem st_scan (l : Txt) : (stN [45, 45, 62] [45, 45, 33, 62] l = 0 ∧ [45, 45, 62].isPrefixOf l = false ∧ [45, 45, 33, 62].isPrefixOf l = false) ∨ (1 ≤ stN [45, 45, 62] [45, 45, 33, 62] l ∧ stN [45, 45, 62] [45, 45, 33, 62] l ≤ 4 ∧ scanC l = some ([], stN [45, 45, 62] [45, 45, 33, 62] l)) := by
  obtain ⟨s1, s2⟩ := scan_hit l
  unfold stN
  cases h1 : [45, 45, 62].isPrefixOf l
  · cases h2 : [45, 45, 33, 62].isPrefixOf l
    · exact .inl ⟨rfl, rfl, rfl⟩
    · exact .inr ⟨by simp, by simp, s2 h1 h2⟩
  · exact .inr ⟨by simp, by simp, s1 h1⟩
/-- a scan from a place on, told by places -/
def scanM (l : Txt) (i : Nat) : Option (Nat × Nat) := (scanC (l.drop i)).map fun r => (i + r.1.length, i + r.2)
theorem scanM_step (s : ByteArray) (i : Nat) (h : i < s.size) (h1 : [45, 45, 62].isPrefixOf (s.data.toList.drop i) = false) (h2 : [45, 45, 33, 62].isPrefixOf (s.data.toList.drop i) = false) : scanM s.data.toList i = scanM s.data.toList (i + 1) := by
  unfold scanM
  rw [drop_at s i h] at h1 h2 ⊢
  rw [scan_step _ _ h1 h2]
  cases scanC (s.data.toList.drop (i + 1)) with
  | none => rfl
  | some r => simp; omega
theorem scanM_hit (l : Txt) (i n : Nat) (h : scanC (l.drop i) = some ([], n)) : scanM l i = some (i, i + n) := by
  unfold scanM; rw [h]; rfl
theorem scanM_end (s : ByteArray) : scanM s.data.toList s.size = none := by
  unfold scanM
  rw [List.drop_eq_nil_of_le (by rw [← Lib.size_eq]; exact Nat.le_refl _)]; rfl

theorem ret_ints {a b m n : Int} (h1 : a = b) (h2 : m = n) : Ending.returned (.tuple #[.int .i64 a, .int .i64 m]) = .returned (.tuple #[.int .i64 b, .int .i64 n]) := by rw [h1, h2]
set_option maxRecDepth 100000 in
set_option maxHeartbeats 4000000 in
theorem markedEnd_any (s : ByteArray) (f : Nat) (a : Int) (w : World) (hs : s.size ≤ 1048576) (ha : (f : Int) = a) (hf : f ≤ s.size) :
    Calls Try.prog 17 #[.string s, .int .i64 a] w fun e w' => e = .returned (.tuple #[.int .i64 ((f + (plainC (s.data.toList.drop f)).1.length : Nat) : Int), .int .i64 ((f + (plainC (s.data.toList.drop f)).2 : Nat) : Int)]) ∧ Below w.heap.size w w' := by
  subst ha
  have hf2 : f ≤ 1048576 := by omega
  have HS := fun w => Lib.hid (standing_any ⟨#[62]⟩ ⟨#[45, 62]⟩ (s.extract f s.size) w)
  rw [drop_text, show (⟨#[62]⟩ : ByteArray).data.toList = [62] from rfl, show (⟨#[45, 62]⟩ : ByteArray).data.toList = [45, 62] from rfl] at HS
  rcases st_short (s.data.toList.drop f) with ⟨h1, h2⟩ | ⟨h1, h2⟩ | ⟨h1, h2⟩
  · rw [h1] at HS
    rw [h2]
    clear h1 h2
    go_enter Try.func17, Try.ntmps17
    go_wp2_with (go_at_call 28; refine (HS _).out.mono ?_; rintro e w' ⟨rfl, b1⟩)
    go_ret2
    exact ⟨rfl, b1⟩
  · rw [h1] at HS
    rw [h2]
    clear h1 h2
    go_enter Try.func17, Try.ntmps17
    go_wp2_with (go_at_call 28; refine (HS _).out.mono ?_; rintro e w' ⟨rfl, b1⟩)
    go_ret2
    exact ⟨rfl, b1⟩
  · rw [h1] at HS
    have HW := fun w => Lib.hid (withoutCut_any (s.extract f s.size) w (by rw [ByteArray.size_extract]; omega))
    rw [drop_text] at HW
    obtain ⟨T, hT⟩ : ∃ T : ByteArray, ⟨(tailC (s.data.toList.drop f)).toArray⟩ = T := ⟨_, rfl⟩
    have hTs : T.size = (tailC (s.data.toList.drop f)).length := by rw [← hT, Lib.size_eq, List.toList_toArray]
    have hTl : T.size ≤ 1048576 := by
      have := tail_le (s.data.toList.drop f)
      rw [List.length_drop, ← Lib.size_eq] at this; omega
    rw [hT] at HW
    obtain ⟨P, hP⟩ : ∃ P, plainC (s.data.toList.drop f) = P := ⟨_, rfl⟩
    rw [hP] at h2 ⊢
    have HNone : Hid (scanM s.data.toList f = none → (f + P.1.length : Nat) = f + T.size ∧ (f + P.2 : Nat) = s.size) := Lib.hid fun h => by
      unfold scanM at h
      rw [Option.map_eq_none_iff] at h
      rw [h] at h2
      rw [h2, hTs, List.length_drop, ← Lib.size_eq]
      exact ⟨rfl, by show f + (s.size - f) = s.size; omega⟩
    have HSome : Hid (∀ u v, scanM s.data.toList f = some (u, v) → (f + P.1.length : Nat) = u ∧ (f + P.2 : Nat) = v) := Lib.hid fun u v h => by
      unfold scanM at h
      obtain ⟨r, h3, h4⟩ := Option.map_eq_some_iff.1 h
      rw [h3] at h2
      rw [h2]
      simp only [Prod.mk.injEq] at h4
      exact h4
    obtain ⟨U, hU⟩ : ∃ U, (f + P.1.length : Nat) = U := ⟨_, rfl⟩
    obtain ⟨V, hV⟩ : ∃ V, (f + P.2 : Nat) = V := ⟨_, rfl⟩
    rw [hU, hV] at HNone HSome ⊢
    clear h1 h2 hT hP hTs hU hV P
    go_enter Try.func17, Try.ntmps17
    go_wp2_with (go_at_call 28; refine (HS _).out.mono ?_; rintro e w1 ⟨rfl, b1⟩)
    have B1 := Lib.hid b1
    have hS0 : (w1.alloc (.cells #[.string ⟨#[45, 45, 62]⟩, .string ⟨#[45, 45, 33, 62]⟩] 45)).cell? ⟨w1.heap.size, 0, none⟩ = some (.string ⟨#[45, 45, 62]⟩) ∧ (w1.alloc (.cells #[.string ⟨#[45, 45, 62]⟩, .string ⟨#[45, 45, 33, 62]⟩] 45)).cell? ⟨w1.heap.size, 1, none⟩ = some (.string ⟨#[45, 45, 33, 62]⟩) ∧ w1.heap.size < (w1.alloc (.cells #[.string ⟨#[45, 45, 62]⟩, .string ⟨#[45, 45, 33, 62]⟩] 45)).heap.size ∧ Below w.heap.size w (w1.alloc (.cells #[.string ⟨#[45, 45, 62]⟩, .string ⟨#[45, 45, 33, 62]⟩] 45)) := by
      refine ⟨?_, ?_, by simp, b1.alloc b1.size _⟩ <;> (rw [cell_of_row _ _ _ _ _ _ (heap_alloc_new w1 _)]; rfl)
    have hk : ∀ u v : World, (u.cell? ⟨w1.heap.size, 0, none⟩ = some (.string ⟨#[45, 45, 62]⟩) ∧ u.cell? ⟨w1.heap.size, 1, none⟩ = some (.string ⟨#[45, 45, 33, 62]⟩) ∧ w1.heap.size < u.heap.size ∧ Below w.heap.size w u) → Below u.heap.size u v → (v.cell? ⟨w1.heap.size, 0, none⟩ = some (.string ⟨#[45, 45, 62]⟩) ∧ v.cell? ⟨w1.heap.size, 1, none⟩ = some (.string ⟨#[45, 45, 33, 62]⟩) ∧ w1.heap.size < v.heap.size ∧ Below w.heap.size w v) := fun u v h b => by
      obtain ⟨x0, x1, hl, hb⟩ := h
      exact ⟨(b.cell (p := ⟨w1.heap.size, 0, none⟩) hl).trans x0, (b.cell (p := ⟨w1.heap.size, 1, none⟩) hl).trans x1, Nat.lt_of_lt_of_le hl b.size, hb.trans (b.mono hb.size)⟩
    have HK := Lib.hid hk
    have FIN : Hid (∀ u : World, (u.cell? ⟨w1.heap.size, 0, none⟩ = some (.string ⟨#[45, 45, 62]⟩) ∧ u.cell? ⟨w1.heap.size, 1, none⟩ = some (.string ⟨#[45, 45, 33, 62]⟩) ∧ w1.heap.size < u.heap.size ∧ Below w.heap.size w u) → Below w.heap.size w u) := Lib.hid fun u h => h.2.2.2
    have HS0 := Lib.hid hS0
    clear hk hS0 b1 HS
    go_wp2
    go_loopw [8] (fun v wr => ∃ i : Nat, v = .int .i64 (i : Int) ∧ (wr.cell? ⟨w1.heap.size, 0, none⟩ = some (.string ⟨#[45, 45, 62]⟩) ∧ wr.cell? ⟨w1.heap.size, 1, none⟩ = some (.string ⟨#[45, 45, 33, 62]⟩) ∧ w1.heap.size < wr.heap.size ∧ Below w.heap.size w wr) ∧ f ≤ i ∧ i ≤ s.size ∧ Hid (scanM s.data.toList i = scanM s.data.toList f)) (fun v _ => s.size - (intOf v).toNat)
    case atStart => exact ⟨f, rfl, HS0.out, Nat.le_refl _, hf, Lib.hid rfl⟩
    case round =>
      obtain ⟨i, rfl, hS, hfi, hi, HI⟩ := hrel
      by_cases hlt : i < s.size
      · have HSt := fun w => Lib.hid (standing_any ⟨#[45, 45, 62]⟩ ⟨#[45, 45, 33, 62]⟩ (s.extract i s.size) w)
        rw [drop_text, show (⟨#[45, 45, 62]⟩ : ByteArray).data.toList = [45, 45, 62] from rfl, show (⟨#[45, 45, 33, 62]⟩ : ByteArray).data.toList = [45, 45, 33, 62] from rfl] at HSt
        have hi2 : i ≤ 1048576 := by omega
        have hd : wr.drew.cell? ⟨w1.heap.size, 0, none⟩ = some (.string ⟨#[45, 45, 62]⟩) ∧ wr.drew.cell? ⟨w1.heap.size, 1, none⟩ = some (.string ⟨#[45, 45, 33, 62]⟩) ∧ w1.heap.size < wr.drew.heap.size ∧ Below w.heap.size w wr.drew := by
          obtain ⟨x0, x1, hl, hb⟩ := hS
          exact ⟨x0, x1, hl, hb.drew⟩
        rcases st_scan (s.data.toList.drop i) with ⟨h1, h2, h3⟩ | ⟨h1, h2, h3⟩
        · rw [h1] at HSt
          have HN := Lib.hid ((scanM_step s i hlt h2 h3).symm.trans HI.out)
          have cA : Hid (∀ u : World, (u.cell? ⟨w1.heap.size, 0, none⟩ = some (.string ⟨#[45, 45, 62]⟩) ∧ u.cell? ⟨w1.heap.size, 1, none⟩ = some (.string ⟨#[45, 45, 33, 62]⟩) ∧ w1.heap.size < u.heap.size ∧ Below w.heap.size w u) → Calls Try.prog 28 #[.agg #[.string ⟨#[45, 45, 62]⟩, .string ⟨#[45, 45, 33, 62]⟩], .string (s.extract i s.size)] u fun e v => e = .returned (.int .i64 ((0 : Nat) : Int)) ∧ (v.cell? ⟨w1.heap.size, 0, none⟩ = some (.string ⟨#[45, 45, 62]⟩) ∧ v.cell? ⟨w1.heap.size, 1, none⟩ = some (.string ⟨#[45, 45, 33, 62]⟩) ∧ w1.heap.size < v.heap.size ∧ Below w.heap.size w v)) := Lib.hid fun u h => by
            refine (HSt u).out.mono ?_
            rintro e v ⟨rfl, b⟩
            exact ⟨rfl, HK.out u v h b⟩
          clear h1 h2 h3 HSt
          go_wp2
          go_region_held3 (fun u : World => u.cell? ⟨w1.heap.size, 0, none⟩ = some (.string ⟨#[45, 45, 62]⟩) ∧ u.cell? ⟨w1.heap.size, 1, none⟩ = some (.string ⟨#[45, 45, 33, 62]⟩) ∧ w1.heap.size < u.heap.size ∧ Below w.heap.size w u)
            (first | exact hd | assumption)
            (first | (go_at_call 28; (with_reducible refine (cA.out _ ‹_›).mono ?_); rintro e w' ⟨rfl, hb⟩))
          all_goals
            go_wp2
            go_roundw
            case rel => exact ⟨i + 1, by go_num, ‹_›, by omega, by omega, HN⟩
            case measure => simp [intOf]; omega
        · obtain ⟨n, hn⟩ : ∃ n, stN [45, 45, 62] [45, 45, 33, 62] (s.data.toList.drop i) = n := ⟨_, rfl⟩
          rw [hn] at HSt h1 h2 h3
          have HR := Lib.hid (HSome.out i (i + n) (HI.out.symm.trans (scanM_hit _ i n h3)))
          have cA : Hid (∀ u : World, (u.cell? ⟨w1.heap.size, 0, none⟩ = some (.string ⟨#[45, 45, 62]⟩) ∧ u.cell? ⟨w1.heap.size, 1, none⟩ = some (.string ⟨#[45, 45, 33, 62]⟩) ∧ w1.heap.size < u.heap.size ∧ Below w.heap.size w u) → Calls Try.prog 28 #[.agg #[.string ⟨#[45, 45, 62]⟩, .string ⟨#[45, 45, 33, 62]⟩], .string (s.extract i s.size)] u fun e v => e = .returned (.int .i64 (n : Int)) ∧ (v.cell? ⟨w1.heap.size, 0, none⟩ = some (.string ⟨#[45, 45, 62]⟩) ∧ v.cell? ⟨w1.heap.size, 1, none⟩ = some (.string ⟨#[45, 45, 33, 62]⟩) ∧ w1.heap.size < v.heap.size ∧ Below w.heap.size w v)) := Lib.hid fun u h => by
            refine (HSt u).out.mono ?_
            rintro e v ⟨rfl, b⟩
            exact ⟨rfl, HK.out u v h b⟩
          clear h3 HSt hn
          go_wp2
          go_region_held3 (fun u : World => u.cell? ⟨w1.heap.size, 0, none⟩ = some (.string ⟨#[45, 45, 62]⟩) ∧ u.cell? ⟨w1.heap.size, 1, none⟩ = some (.string ⟨#[45, 45, 33, 62]⟩) ∧ w1.heap.size < u.heap.size ∧ Below w.heap.size w u)
            (first | exact hd | assumption)
            (first | (go_at_call 28; (with_reducible refine (cA.out _ ‹_›).mono ?_); rintro e w' ⟨rfl, hb⟩))
          all_goals
            go_wp2
            go_ret2
            exact ⟨ret_ints (by rw [HR.out.1]) (by rw [HR.out.2]; omega), FIN.out _ ‹_›⟩
      · obtain rfl : i = s.size := by omega
        have HR := Lib.hid (HNone.out (HI.out.symm.trans (scanM_end s)))
        have HBW := Lib.hid hS.2.2.2
        clear hS
        go_wp2_with (go_at_call 29; refine (HW _).out.mono ?_; rintro e w' ⟨rfl, rfl⟩)
        go_ret2
        exact ⟨ret_ints (by rw [HR.out.1]; omega) (by rw [HR.out.2]), HBW.out⟩
end Go.Proofs.Ytjcmpmijbngjnaa
