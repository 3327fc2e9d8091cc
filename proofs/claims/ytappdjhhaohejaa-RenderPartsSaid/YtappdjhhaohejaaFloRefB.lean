/-
  What the document's flow of layer 18 does: a byte of a word behind others; a byte; things that are done.
-/
import Derived.Test.YtappdjhhaohejaaFloRef
namespace Go.Proofs.Ytappdjhhaohejaa
open Go.RowKit Go.Lib

set_option maxRecDepth 100000 in
set_option maxHeartbeats 8000000 in
theorem put_more (g : Nat) (f : FloP) (c : UInt8) (keep : Bool) (w : World) (h : FloIs 54 w g f) (hn : f.told ≠ []) (h0 : c ≠ 0) (hb : blkB c = false) (hs : f.size ≤ 1073741824) :
    Calls Try.prog 40 #[.pointer (some ⟨g, 0, none⟩), .int .u8 ((c.toNat : Nat) : Int), .bool keep] w (PutIs g ⟨tellF f c, 0, []⟩ w) := by
  obtain ⟨k0, k9, k10, k12, k13, k32⟩ := word_facts c h0 hb
  obtain ⟨t, n, b⟩ := f
  unfold FloP.size at hs
  unfold PutIs FloIs at *
  unfold tellF
  simp only at h hn hs ⊢
  rw [if_neg hn]
  obtain ⟨q, hq⟩ : ∃ q : Int, ((c.toNat : Nat) : Int) = q := ⟨_, rfl⟩
  rw [hq] at k0 k9 k10 k12 k13 k32 ⊢
  have o1 := fun w => Lib.hid (one_drew w q c hq)
  have hlt := c.toNat_lt
  have hq0 : 0 ≤ q := by omega
  have hq1 : q ≤ 255 := by omega
  obtain ⟨d, hd, hds⟩ : ∃ d : ByteArray, d = ⟨#[c]⟩ ∧ d.size = 1 := ⟨_, rfl, rfl⟩
  rw [← hd] at o1
  obtain ⟨A, hA⟩ : ∃ A : ByteArray, (⟨t.toArray⟩ : ByteArray) = A := ⟨_, rfl⟩
  have hAl : A.data.toList = t := by rw [← hA]
  have hAs : A.size = t.length := by rw [Lib.size_eq, hAl]
  obtain ⟨B, hB⟩ : ∃ B : ByteArray, (⟨b.toArray⟩ : ByteArray) = B := ⟨_, rfl⟩
  have hBl : B.data.toList = b := by rw [← hB]
  have hBs : B.size = b.length := by rw [Lib.size_eq, hBl]
  have HT : Hid (∀ T : ByteArray, T.data.toList = t ++ List.replicate n 10 → (T ++ B) ++ d = ⟨(t ++ List.replicate n 10 ++ b ++ [c]).toArray⟩) := Lib.hid fun T hT => str_ext (by
    rw [hd]; simp [hT, hBl])
  rw [hA, hB] at h
  obtain ⟨Z, hZ⟩ : ∃ Z : ByteArray, (⟨(t ++ List.replicate n 10 ++ b ++ [c]).toArray⟩ : ByteArray) = Z := ⟨_, rfl⟩
  rw [hZ] at HT ⊢
  obtain ⟨a1, a2⟩ := flo_told A (by rw [hAl]; exact hn)
  have hsz : A.size + n + B.size ≤ 1073741824 := by omega
  have H := Lib.hid h
  have HAL := Lib.hid hAl
  obtain ⟨x0, x1, x2⟩ := floAt_cells h
  clear h hq hd hlt h0 hb hA hB hBl hZ hn hs hAs hBs hAl
  go_enter Try.func40, Try.ntmps40
  go_wp2
  clear x0 x1 x2
  go_loopw [6] (fun v wr => ∃ (i : Nat) (T : ByteArray), v = .int .i64 (i : Int) ∧ FloAt 54 wr g T n B ∧ w.grownBy wr (some g) ∧ i ≤ n ∧ T.size = A.size + i ∧ Hid (T.data.toList = t ++ List.replicate i 10)) (fun v _ => n - (intOf v).toNat)
  case atStart => exact ⟨0, A, rfl, H.out, grown_none (Below.refl _ _) _, Nat.zero_le _, rfl, Lib.hid (by rw [HAL.out]; simp)⟩
  case round =>
    obtain ⟨i, T, rfl, hF, hG, hi, hTs, HTL⟩ := hrel
    have HF := Lib.hid hF
    have HG := Lib.hid hG
    obtain ⟨x0, x1, x2⟩ := floAt_cells hF
    have z0 := floAt_thawed hF 0
    have zg := hF.lt
    by_cases hlt : i < n
    · have g1 : ¬ 9223372036854775807 < T.size + 1 := by omega
      have HTN := Lib.hid (show (T ++ ⟨#[10]⟩).data.toList = t ++ List.replicate (i + 1) 10 from by
        rw [List.replicate_succ']
        simp [HTL.out])
      clear hF hG z0 zg
      go_wp2_with (refine wpList_store_flo 54 rfl 9 _ _ rfl g 0 _ T (T ++ ⟨#[10]⟩) n n B B rfl rfl HF.out (by decide) sizeStrF rfl rfl rfl ?_; intro w1 h1 g1; have H1 := Lib.hid h1; have G1 := Lib.hid g1; clear h1 g1)
      go_roundw
      case rel => exact ⟨i + 1, T ++ ⟨#[10]⟩, by go_num, H1.out, HG.out.trans G1.out, by omega, by rw [ByteArray.size_append]; show T.size + 1 = _; omega, HTN⟩
      case measure => simp [intOf]; omega
    · obtain rfl : i = n := by omega
      have g1 : ¬ 9223372036854775807 < T.size + B.size := by omega
      go_wp2
      go_region_with (fail)
      all_goals
        have F5 : Hid (FloAt 54 (wr.setCell ⟨g, 0, none⟩ (.string (T ++ B))).drew g (T ++ B) i B ∧ w.grownBy (wr.setCell ⟨g, 0, none⟩ (.string (T ++ B))).drew (some g)) := Lib.hid (by
          obtain ⟨k1, k2⟩ := HF.out.set 0 (.string (T ++ B)) (t' := T ++ B) (n' := i) (b' := B) rfl
          have h1 : Below (wr.setCell ⟨g, 0, none⟩ (.string (T ++ B))).heap.size (wr.setCell ⟨g, 0, none⟩ (.string (T ++ B))) (wr.setCell ⟨g, 0, none⟩ (.string (T ++ B))).drew := (Below.refl _ _).drew
          exact ⟨k1.below h1, (HG.out.trans k2).trans (grown_none h1 _)⟩)
        obtain ⟨wx, hwx⟩ : ∃ wx, (wr.setCell ⟨g, 0, none⟩ (.string (T ++ B))).drew = wx := ⟨_, rfl⟩
        rw [hwx] at F5 ⊢
        obtain ⟨f5, e5⟩ := F5.out
        have HF5 := Lib.hid f5
        have HE5 := Lib.hid e5
        clear hwx F5 e5 x0 x1 x2 z0 zg g1
        obtain ⟨x0, x1, x2⟩ := floAt_cells f5
        have z0 := floAt_thawed f5 0
        have zg := f5.lt
        have hTBs : (T ++ B).size ≤ 1073741824 := by rw [ByteArray.size_append]; omega
        have HTB := Lib.hid (HT.out T HTL.out)
        obtain ⟨U, hU⟩ : ∃ U, T ++ B = U := ⟨_, rfl⟩
        rw [hU] at x0 hTBs HF5 HTB ⊢
        have g1 : ¬ 9223372036854775807 < U.size + d.size := by omega
        have o2 := (o1 wx).out
        have F0 := Lib.hid (flo_drew (HF5.out.set 0 (.string (U ++ d)) (t' := U ++ d) (n' := i) (b' := B) rfl) (.cells #[.int .u8 q] 5))
        clear f5 hU o1 hF hG HF
        go_wp2
        go_region_with (fail)
        all_goals
          obtain ⟨f1, e1⟩ := F0.out
          rw [HTB.out] at f1 e1 ⊢
          have F1 := Lib.hid f1
          have E1 := Lib.hid e1
          clear f1 e1
          go_wp2_with (first
            | (refine wpList_store_flo 54 rfl 3 _ _ rfl g 1 _ Z Z i 0 B B rfl rfl F1.out (by decide) sizeIntF rfl rfl rfl ?_; intro w1 h1 g1; have H1 := Lib.hid h1; have G1 := Lib.hid g1; clear h1 g1)
            | (refine wpList_store_flo 54 rfl 9 _ _ rfl g 2 _ Z Z 0 0 B ⟨#[]⟩ rfl rfl H1.out (by decide) sizeStrF rfl rfl rfl ?_; intro w2 h2 g2))
          refine bodyPost_end (results_none rfl _ _ _) (by rfl) ?_
          exact ⟨rfl, h2, ((HE5.out.trans E1.out).trans G1.out).trans g2⟩

theorem put_any (g : Nat) (f : FloP) (c : UInt8) (keep : Bool) (w : World) (h : FloIs 54 w g f) (hs : f.size ≤ 1073741824) :
    Calls Try.prog 40 #[.pointer (some ⟨g, 0, none⟩), .int .u8 ((c.toNat : Nat) : Int), .bool keep] w (PutIs g (putB keep f c) w) := by
  unfold putB
  by_cases h0 : c = 0
  · rw [if_pos h0, h0]; exact put_zero g f keep w h
  · rw [if_neg h0]
    by_cases hb : blkB c = true
    · rw [if_pos hb]
      have hk := (blk_is c).1 hb
      cases keep with
      | true =>
        rw [if_pos rfl]
        by_cases hl : c = 10 ∨ c = 13
        · rw [if_pos hl]; exact put_line g f c w h hl hs
        · rw [if_neg hl]
          refine put_kept g f c w h ?_ hs
          rcases hk with e | e | e | e | e
          · exact .inl e
          · exact absurd (.inl e) hl
          · exact .inr (.inl e)
          · exact absurd (.inr e) hl
          · exact .inr (.inr e)
      | false => rw [if_neg Bool.false_ne_true]; exact put_thin g f c w h hk
    · rw [if_neg hb]
      have hb : blkB c = false := by simpa using hb
      by_cases hn : f.told = []
      · obtain ⟨t, n, b⟩ := f
        simp only at hn
        subst hn
        exact put_first g n b c keep w h h0 hb
      · exact put_more g f c keep w h hn h0 hb hs
end Go.Proofs.Ytappdjhhaohejaa
