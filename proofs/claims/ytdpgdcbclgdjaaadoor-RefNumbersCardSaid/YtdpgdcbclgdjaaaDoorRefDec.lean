/-
  What package ref's Decode answers, for every text.
-/
import Derived.Test.YtdpgdcbclgdjaaaDoorRefCode
import Derived.Test.YtdpgdcbclgdjaaaDoorBld
import Derived.Test.YtdpgdcbclgdjaaaDoorGoto
import Derived.Shelf.Strings.MapGrows
namespace Go.Proofs.YtdpgdcbclgdjaaaDoor
open Go.RowKit Go.Lib

/-- the bytes ahead of the next ampersand, and what is left -/
theorem cut_amp : ∀ l : Txt, ∃ p rest, l = p ++ rest ∧ 38 ∉ p ∧ (rest = [] ∨ ∃ z, rest = 38 :: z)
  | [] => ⟨[], [], rfl, by simp, .inl rfl⟩
  | c :: l => by
    by_cases h : c = 38
    · subst h; exact ⟨[], 38 :: l, rfl, by simp, .inr ⟨l, rfl⟩⟩
    · obtain ⟨p, rest, h1, h2, h3⟩ := cut_amp l
      refine ⟨c :: p, rest, by rw [h1]; rfl, ?_, h3⟩
      rw [List.mem_cons, not_or]
      exact ⟨fun e => h e.symm, h2⟩
theorem pass_end (attr : Bool) (l p acc : Txt) (i : Nat) (hp : l.drop i = p) (h38 : 38 ∉ p) (heq : acc ++ ddL attr (l.drop i) = ddL attr l) : acc ++ p = ddL attr l := by
  rw [hp, dd_stays attr p h38] at heq; exact heq
theorem pass_amp (attr : Bool) (l p z acc : Txt) (i : Nat) (hp : l.drop i = p ++ 38 :: z) (h38 : 38 ∉ p) (heq : acc ++ ddL attr (l.drop i) = ddL attr l) :
    l.getD (i + p.length) 0 = 38 ∧ l.drop (i + p.length + 1) = z ∧ i + p.length + 1 + z.length = l.length ∧ (acc ++ p ++ refT z attr) ++ ddL attr (l.drop (i + p.length + 1 + refM z)) = ddL attr l := by
  have h1 : l.drop (i + p.length) = 38 :: z := by rw [← List.drop_drop, hp, List.drop_left]
  have h2 : l.drop (i + p.length + 1) = z := by rw [← List.drop_drop, h1]; rfl
  have h3 : i + p.length < l.length := by
    refine Nat.lt_of_not_le fun h => ?_
    rw [List.drop_eq_nil_of_le h] at h1
    exact absurd h1.symm (List.cons_ne_nil _ _)
  refine ⟨?_, h2, ?_, ?_⟩
  · rw [List.getD_eq_getElem?_getD, ← Nat.add_zero (i + p.length), ← List.getElem?_drop, h1]; rfl
  · have := congrArg List.length h1
    rw [List.length_drop, List.length_cons] at this
    omega
  · rw [← List.drop_drop, h2, ← heq, hp, dd_ahead attr _ p h38, dd_amp]
    simp only [List.append_assoc]

set_option maxRecDepth 100000 in
set_option maxHeartbeats 4000000 in
/-- P7.2 -/
theorem decode_any (s : ByteArray) (attr : Bool) (w : World) (hs : s.size ≤ 1099511627776) (hT : TabAt w) (hE : ErrAt w) :
    Calls Tryd.prog 12 #[.string s, .bool attr] w fun e w' => e = .returned (.string ⟨(ddL attr s.data.toList).toArray⟩) ∧ Below w.heap.size w w' := by
  have HT := Lib.hid hT
  have HE := Lib.hid hE
  clear hT hE
  go_enter Tryd.func12, Tryd.ntmps12
  go_wp2
  refine wp_scope_label 0 (fun a' wr => ∃ (at_ : Nat) (acc : List UInt8) (u2 u3 u7 u8 u9 u10 u11 u12 u13 u14 u15 u16 u17 u18 u19 u20 u21 u22 u23 u24 u25 u26 u27 u28 u29 u30 u31 u32 u33 u34 u35 u36 u37 u38 u39 u40 : Value), a' = { tmps := #[.string s, .bool attr, u2, u3, .string ⟨#[]⟩, .pointer (some ⟨w.heap.size, 0, none⟩), .int .i64 (at_ : Int), u7, u8, u9, u10, u11, u12, u13, u14, u15, u16, u17, u18, u19, u20, u21, u22, u23, u24, u25, u26, u27, u28, u29, u30, u31, u32, u33, u34, u35, u36, u37, u38, u39, u40], defers := [] } ∧ Lib.IsBuilderF 49 5 w.heap.size w.heap.size (Lib.byteCells acc) wr ∧ Below w.heap.size w wr ∧ at_ ≤ s.size ∧ acc ++ ddL attr (s.data.toList.drop at_) = ddL attr s.data.toList ∧ acc.length ≤ 3 * at_)
    (fun a' _ => s.size - (intOf (a'.tmps.getD 6 undef)).toNat) rfl ?_ ?_
  · rintro a' wr ⟨at_, acc, u2, u3, u7, u8, u9, u10, u11, u12, u13, u14, u15, u16, u17, u18, u19, u20, u21, u22, u23, u24, u25, u26, u27, u28, u29, u30, u31, u32, u33, u34, u35, u36, u37, u38, u39, u40, rfl, hI, hbw, hle, heq, hacc⟩
    have hsz := hbw.size
    obtain ⟨p, rest, hp, h38, hrest⟩ := cut_amp (s.data.toList.drop at_)
    have hxs : (s.extract at_ s.size).size ≤ 1099511627776 := by rw [ByteArray.size_extract]; omega
    have HC := fun w => Lib.hid (cut_any (s.extract at_ s.size) 38 p rest w hxs (by rw [extract_data, List.take_of_length_le (by rw [List.length_drop, ← Lib.size_eq]; omega)]; exact hp) h38 hrest)
    unfold cutV at HC
    obtain ⟨L, hL⟩ : ∃ L : ByteArray, ⟨p.toArray⟩ = L := ⟨_, rfl⟩
    have hLl : L.data.toList = p := by rw [← hL, List.toList_toArray]
    have hLs : L.size = p.length := by rw [Lib.size_eq, hLl]
    have hlen : at_ + p.length + rest.length = s.size := by
      have := congrArg List.length hp
      rw [List.length_drop, ← Lib.size_eq, List.length_append] at this
      omega
    rw [hL] at HC
    rcases hrest with rfl | ⟨z, rfl⟩
    · have HE2 := Lib.hid (pass_end attr s.data.toList p acc at_ (by rw [hp, List.append_nil]) h38 heq)
      have hLb : at_ + L.size ≤ s.size := by omega
      have HLc := Lib.hid (show Lib.strCells L = Lib.byteCells p by rw [← hLl]; rfl)
      clear heq hp h38 hL hLl hLs hlen hxs
      go_wp2_with (fail)
      refine (HC _).out.mono ?_
      rintro e w1 ⟨rfl, n1, rfl⟩
      have hI1 := Lib.IsBuilderF.below hI (dr_below _ wr n1)
      go_wp2_with (fail)
      refine (writeString w.heap.size w.heap.size _ L _ hI1 (by rw [byteCells_length]; omega) hsz).mono ?_
      rintro e w2 ⟨rfl, h1, b1, -⟩
      rw [HLc.out, ← byteCells_append] at h1
      go_wp2_with (fail)
      refine (Tryd.Builder_String_any_k w.heap.size w.heap.size (acc ++ p) _ (.inr h1) (Nat.le_trans (show w.heap.size ≤ (wr.drewN n1).heap.size from hsz) b1.size)).mono ?_
      rintro e w3 ⟨rfl, _, b2, _⟩
      go_wp2
      simp only [Exit.jump]
      go_ret
      refine ⟨ret_str (by rw [HE2.out]), ((hbw.trans (dr_below _ wr n1)).trans b1).trans b2⟩
    · obtain ⟨k1, k2, k3, k4⟩ := pass_amp attr s.data.toList p z acc at_ hp h38 heq
      have hm := refM_le z
      have ht := (refT_len z attr).2
      rw [← Lib.size_eq] at k3
      have HR := fun w h1 h2 => Lib.hid (rd_any s ((at_ + p.length : Nat) : Int) attr w hs (by omega) h1 h2)
      obtain ⟨r1, r2⟩ := rd_yes s.data.toList (at_ + p.length) attr k1
      rw [r1, r2, k2, show ((at_ + p.length : Nat) : Int) + 1 + (refM z : Int) = ((at_ + p.length + 1 + refM z : Nat) : Int) by omega, show ((at_ + p.length : Nat) : Int) = (at_ : Int) + (L.size : Int) by omega] at HR
      obtain ⟨M, hM⟩ : ∃ M, at_ + p.length + 1 + refM z = M := ⟨_, rfl⟩
      rw [hM] at HR k4
      have hM1 : at_ < M := by omega
      have hM2 : M ≤ s.size := by omega
      have hM3 : acc.length + p.length + (refT z attr).length ≤ 3 * M := by omega
      have hLb : at_ + L.size ≤ s.size := by omega
      obtain ⟨X, hX⟩ : ∃ X : ByteArray, ⟨(refT z attr).toArray⟩ = X := ⟨_, rfl⟩
      have hXl : X.data.toList = refT z attr := by rw [← hX, List.toList_toArray]
      have hXn : X.size = (refT z attr).length := by rw [Lib.size_eq, hXl]
      have hXs : acc.length + L.size + X.size ≤ 3 * M := by omega
      have HXn := Lib.hid hXn
      have HXc := Lib.hid (show Lib.strCells X = Lib.byteCells (refT z attr) by rw [← hX]; rfl)
      have HLc := Lib.hid (show Lib.strCells L = Lib.byteCells p by rw [← hLl]; rfl)
      have HK := Lib.hid k4
      have HLs := Lib.hid hLs
      rw [hX] at HR
      clear hX hXl hXn hM heq hp h38 hL hLl hLs hlen hxs k1 k2 k3 k4 r1 r2 ht hm
      go_wp2_with (fail)
      refine (HC _).out.mono ?_
      rintro e w1 ⟨rfl, n1, rfl⟩
      have hI1 := Lib.IsBuilderF.below hI (dr_below _ wr n1)
      go_wp2_with (fail)
      refine (writeString w.heap.size w.heap.size _ L _ hI1 (by rw [byteCells_length]; omega) hsz).mono ?_
      rintro e w2 ⟨rfl, h1, b1, -⟩
      rw [HLc.out, ← byteCells_append] at h1
      have B2 := (hbw.trans (dr_below w.heap.size wr n1)).trans b1
      have hs2 : w.heap.size ≤ w2.heap.size := B2.size
      go_wp2_with (fail)
      refine (HR _ (HT.out.below B2) (HE.out.below B2)).out.mono ?_
      rintro e w3 ⟨rfl, b3⟩
      have B3 := B2.trans (b3.mono hs2)
      have h3 := Lib.IsBuilderF.below (.inr h1) b3
      go_wp2_with (fail)
      refine (writeString w.heap.size w.heap.size _ X _ h3 (by rw [byteCells_length, List.length_append, ← HLs.out]; omega) B3.size).mono ?_
      rintro e w4 ⟨rfl, h4, b4, -⟩
      rw [HXc.out, ← byteCells_append] at h4
      go_wp2
      go_step3
      refine ⟨rfl, ⟨M, acc ++ p ++ refT z attr, _, _, _, _, _, _, _, _, _, _, _, _, _, _, _, _, _, _, _, _, _, _, _, _, _, _, _, _, _, _, _, _, _, _, _, _, rfl, .inr h4, B3.trans b4, hM2, HK.out, by rw [List.length_append, List.length_append]; exact hM3⟩, ?_⟩
      simp [intOf]; omega
  · intro hpass
    go_wp2_with (fail)
    refine (Tryd.Builder_Grow_fresh w.heap.size w.heap.size s.size _ (Nat.le_refl _) (heap_alloc_new w _) (by simp) (by omega)).mono ?_
    rintro e w2 ⟨rfl, hB0, hbel0⟩
    have hI0 : Lib.IsBuilderF 49 5 w.heap.size w.heap.size [] w2 := Lib.IsBuilderF.of (.inr hB0)
    go_wp2
    go_step3
    rename_i K hK
    refine hK _ _ (hpass _ _ ?_)
    exact ⟨0, [], _, _, _, _, _, _, _, _, _, _, _, _, _, _, _, _, _, _, _, _, _, _, _, _, _, _, _, _, _, _, _, _, _, _, _, _, rfl, hI0, ((Below.refl _ w).alloc (Nat.le_refl _) _).trans hbel0, Nat.zero_le _, rfl, Nat.zero_le _⟩
end Go.Proofs.YtdpgdcbclgdjaaaDoor
