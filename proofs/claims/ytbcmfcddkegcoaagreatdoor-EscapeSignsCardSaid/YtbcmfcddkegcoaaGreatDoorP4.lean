/-
  Texts laid together: LinesMath, BldB, Bld, LinesCode, LinesRef, SignLow.
-/
import Derived.WalkKit
import Derived.Test.YtbcmfcddkegcoaaGreatDoorShelf
import Derived.BigCall
import Derived.Lib.RuneBytes
import Derived.Lib.Hide
import Derived.Test.YtbcmfcddkegcoaaGreatDoorP3
import Derived.Test.YtbcmfcddkegcoaaGreatDoorP1
import Derived.Lib.Bytes
import Derived.WalkSpells
import Derived.WalkLawsBesides
/-! Lists of bytes with their lines' ends made one (normL), and with the byte 0 told otherwise (cleanL): plain mathematics. -/
namespace Go.Proofs.YtbcmfcddkegcoaaGreatDoor

/-- ends of lines made one -/
def normL : List UInt8 → List UInt8
  | [] => []
  | c :: r => if c ≠ 13 then c :: normL r else if r.head? = some 10 then normL r else 10 :: normL r
/-- the same, told by what stands ahead -/
def normP : Bool → List UInt8 → List UInt8
  | _, [] => []
  | p, c :: r => if c = 13 then 10 :: normP true r else if c = 10 ∧ p = true then normP false r else c :: normP false r
/-- api.Bad for the byte 0 -/
def cleanL : List UInt8 → List UInt8
  | [] => []
  | c :: r => if c = 0 then 239 :: 191 :: 189 :: cleanL r else c :: cleanL r

theorem normP_eq : ∀ l : List UInt8, normP false l = normL l ∧ 10 :: normP true l = normL (13 :: l)
  | [] => ⟨rfl, rfl⟩
  | c :: r => by
    obtain ⟨h1, h2⟩ := normP_eq r
    by_cases h : c = 13
    · subst h
      have e1 : normP false (13 :: r) = 10 :: normP true r := by simp [normP]
      have e2 : normP true (13 :: r) = 10 :: normP true r := by simp [normP]
      refine ⟨by rw [e1, h2], ?_⟩
      rw [e2, h2]
      rw [show normL (13 :: 13 :: r) = 10 :: normL (13 :: r) from by rw [normL]; simp]
    · have e1 : normP false (c :: r) = c :: normP false r := by simp [normP, h]
      have e0 : normL (c :: r) = c :: normL r := by rw [normL]; simp [h]
      refine ⟨by rw [e1, e0, h1], ?_⟩
      by_cases h' : c = 10
      · subst h'
        have e2 : normP true (10 :: r) = normP false r := by simp [normP]
        rw [e2, h1, show normL (13 :: 10 :: r) = normL (10 :: r) from by rw [normL]; simp, e0]
      · have e2 : normP true (c :: r) = c :: normP false r := by simp [normP, h, h']
        rw [e2, h1, show normL (13 :: c :: r) = 10 :: normL (c :: r) from by rw [normL]; simp [h'], e0]
theorem normP_false (l : List UInt8) : normP false l = normL l := (normP_eq l).1

theorem normL_same : ∀ l : List UInt8, 13 ∉ l → normL l = l
  | [], _ => rfl
  | c :: r, h => by
    simp only [List.mem_cons, not_or] at h
    rw [normL, if_pos (fun e => h.1 e.symm), normL_same r h.2]
theorem normP_len : ∀ (p : Bool) (l : List UInt8), (normP p l).length ≤ l.length
  | _, [] => by simp [normP]
  | p, c :: r => by
    have h1 := normP_len true r
    have h2 := normP_len false r
    rw [normP]; repeat' split
    all_goals simp; try omega
theorem normL_len (l : List UInt8) : (normL l).length ≤ l.length := by rw [← normP_false]; exact normP_len false l

theorem cleanL_same : ∀ l : List UInt8, 0 ∉ l → cleanL l = l
  | [], _ => rfl
  | c :: r, h => by
    simp only [List.mem_cons, not_or] at h
    rw [cleanL, if_neg (fun e => h.1 e.symm), cleanL_same r h.2]
theorem cleanL_len : ∀ l : List UInt8, l.length ≤ (cleanL l).length ∧ (cleanL l).length ≤ 3 * l.length
  | [] => by simp [cleanL]
  | c :: r => by
    have := cleanL_len r
    rw [cleanL]; split <;> simp <;> omega
theorem cleanL_app : ∀ a b : List UInt8, cleanL (a ++ b) = cleanL a ++ cleanL b
  | [], _ => rfl
  | c :: r, b => by
    have := cleanL_app r b
    rw [List.cons_append, cleanL, cleanL]; split <;> simp [this]

end Go.Proofs.YtbcmfcddkegcoaaGreatDoor

/-! What writing to a Builder does, at this program: copyCheck, WriteByte. (The library's own contracts speak of another text of copyCheck: in this program its last arm is cut off.) -/
namespace Go.Proofs.YtbcmfcddkegcoaaGreatDoor
open Go.RowKit Go.Shelf

theorem sizeBuilder : (Tryz.prog.info? 53).map (·.size) = some 2 := by kernel_rfl
theorem liesBuilder : liesAt Tryz.prog Tryz.prog.depth 53 (2 / Tryz.prog.cellsOf 53) 0 53 1 = true := by kernel_rfl

set_option maxHeartbeats 1000000 in
set_option maxRecDepth 100000 in
theorem copyCheck_used (b : Nat) (w : World) (h0 : w.cell? ⟨b, 0, none⟩ = some (.pointer (some ⟨b, 0, none⟩))) :
    Calls Tryz.prog 42 #[.pointer (some ⟨b, 0, none⟩)] w fun e w' => e = .returned (.tuple #[]) ∧ w = w' := by
  obtain ⟨j, hj, _⟩ := Option.map_eq_some_iff.1 sizeBuilder
  go_enter Tryz.func42, Tryz.ntmps42
  go_wp2
  rw [Lib.run_neq_ptr_same w _ Tryz.underlying51 hj]
  go_wp2
  go_end0
  exact ⟨rfl, rfl⟩

set_option maxHeartbeats 1000000 in
set_option maxRecDepth 100000 in
theorem copyCheck_fresh (b : Nat) (w : World) (h0 : w.cell? ⟨b, 0, none⟩ = some (.pointer none)) (hsh : w.shape? b = some (53, 2)) (hfz : w.frozen? ⟨b, 0, none⟩ = false) :
    Calls Tryz.prog 42 #[.pointer (some ⟨b, 0, none⟩)] w fun e w' => e = .returned (.tuple #[]) ∧ w' = w.setCell ⟨b, 0, none⟩ (.pointer (some ⟨b, 0, none⟩)) := by
  obtain ⟨j, hj, hjs⟩ := Option.map_eq_some_iff.1 sizeBuilder
  go_enter Tryz.func42, Tryz.ntmps42
  go_wp2
  rw [Lib.run_to_unsafe w ⟨b, 0, none⟩ Tryz.underlying51 Tryz.underlying95 hj (by rw [hjs]; decide) hsh (Nat.zero_lt_succ 1)]
  simp only [Result.andThen]
  rw [Oper.upon_value]
  go_wp2
  rw [run_callFunc_extern Tryz.func65 (by kernel_rfl) (by kernel_rfl) (by kernel_rfl) (e := Extern.AbiNoEscape.same) (by kernel_rfl)]
  rw [Lib.run_noEscape]
  simp only [Result.andThen]
  rw [Oper.upon_value]
  go_wp2
  rw [Lib.run_from_unsafe w ⟨b, 0, none⟩ Tryz.underlying95 Tryz.underlying51 hj hsh liesBuilder]
  simp only [Result.andThen]
  rw [Oper.upon_value]
  go_wp2
  go_end0
  exact ⟨rfl, rfl⟩

theorem copyCheck (B b : Nat) (bs : List Value) (w : World) (h : Lib.IsBuilderF 53 5 B b bs w) :
    Calls Tryz.prog 42 #[.pointer (some ⟨b, 0, none⟩)] w fun e w' => e = .returned (.tuple #[]) ∧ Lib.BuilderAtF 53 5 B b (.pointer (some ⟨b, 0, none⟩)) bs w' ∧ Below B w w' ∧ Lib.OthersKept 5 (some b) w w' := by
  rcases h with h | h
  · refine (copyCheck_fresh b w h.cell0 h.shape h.frozen0).mono ?_
    rintro e w' ⟨rfl, rfl⟩
    exact ⟨rfl, h.used _, (Below.refl B w).setCell (p := ⟨b, 0, none⟩) h.1 _, (Lib.OthersKept.refl _ _ w).setCell ⟨b, 0, none⟩ rfl _⟩
  · refine (copyCheck_used b w h.cell0).mono ?_
    rintro e w' ⟨rfl, rfl⟩
    exact ⟨rfl, h, Below.refl B _, Lib.OthersKept.refl _ _ _⟩

theorem infoByte : (Tryz.prog.info? 5).map (fun i => (i.zero, i.size, i.bytes)) = some (some (.int .u8 0), 1, 1) := by kernel_rfl

/-- a block that stands -/
theorem lt_of_block {w : World} {b : Nat} {o : Obj} (h : w.heap[b]? = some o) : b < w.heap.size := (Array.getElem?_eq_some_iff.1 h).1

set_option maxHeartbeats 2000000 in
set_option maxRecDepth 100000 in
/-- WriteByte: one byte more. -/
theorem writeByte (B b : Nat) (bs : List Value) (c : Int) (w : World) (h : Lib.IsBuilderF 53 5 B b bs w) (hlen : bs.length + 1 ≤ 140737488355328) (hBw : B ≤ w.heap.size) :
    Calls Tryz.prog 20 #[.pointer (some ⟨b, 0, none⟩), .int .u8 c] w fun e w' => e = .returned .nilIface ∧ Lib.BuilderAtF 53 5 B b (.pointer (some ⟨b, 0, none⟩)) (bs ++ [.int .u8 c]) w' ∧ Below B w w' ∧ Lib.OthersKept 5 (some b) w w' := by
  obtain ⟨i0, hi, hz0, hz1, hz2⟩ := info_parts infoByte
  go_enter Tryz.func20, Tryz.ntmps20
  go_wp2_with (go_at_call 42; refine (copyCheck B b bs _ h).mono ?_)
  rintro e w1 ⟨rfl, h1, hb1, hk1⟩
  obtain ⟨hB, v, hbk, hown, hne⟩ := h1
  have hs1 := hb1.size
  have c0 : w1.cell? ⟨b, 0, none⟩ = some (.pointer (some ⟨b, 0, none⟩)) := by rw [Lib.cell_of_heap hbk]; rfl
  have c1 : w1.cell? ⟨b, 1, none⟩ = some v := by rw [Lib.cell_of_heap hbk]; rfl
  go_wp2_with (at_builtin; refine wpList_append_ownF _ rfl _ _ 25 rfl B 5 i0 (.int .u8 0) 1 1 Tryz.underlying25 hi hz0 hz1 hz2 rfl (by decide) _ _ _ rfl (hown.alloc _) ⟨w1.heap.size, 0, none⟩ 1 1 [.int .u8 c] rfl rfl ?c1 ?c2 ?c3 ?c4 ?c5 ?_)
  case c1 =>
    intro j u hj
    match j, hj with
    | 0, hj => simp at hj; subst hj; simp [Addr.add]
  case c2 => intro u hu; simp at hu; subst hu; rfl
  case c3 => unfold maxLen; omega
  case c4 => omega
  case c5 => simp; omega
  intro v' w2 hown' hgrow _
  have hlt := lt_of_block hbk
  have hb2 : w2.heap[b]? = some (.cells #[.pointer (some ⟨b, 0, none⟩), v] 53 (0, 0)) := by
    rw [hgrow.block b (by simp; omega) (fun e => hne e.symm), Lib.alloc_old w1 _ b hlt]
    exact hbk
  have d0 : w2.cell? ⟨b, 0, none⟩ = some (.pointer (some ⟨b, 0, none⟩)) := by rw [Lib.cell_of_heap hb2]; rfl
  have d1 : w2.cell? ⟨b, 1, none⟩ = some v := by rw [Lib.cell_of_heap hb2]; rfl
  have f1 : w2.frozen? ⟨b, 1, none⟩ = false := Lib.frozen_of_heap hb2 1
  obtain ⟨g, cap, rfl⟩ : ∃ g cap, v' = .slice (some ⟨g, 0, none⟩) (bs.length + 1) cap := by
    rcases hown'.2 with ⟨_, h0⟩ | ⟨g, cap, cur, fz, hv, _⟩
    · omega
    · exact ⟨g, cap, hv⟩
  go_wp2
  go_ret
  exact ⟨rfl, Lib.BuilderAtF.put (T := 53) (e := 5) hB hb2 (bs' := bs ++ [.int .u8 c]) (by simpa using hown') (by decide),
    ((hb1.alloc (by omega) _).grown hgrow (by simp; omega) (fun k hk => (hown.lt k hk).1)).setCell (p := ⟨b, 1, none⟩) hB _, ((hk1.alloc _).grown hgrow (Lib.ownsRowF_kind (hown.alloc _))).setCell ⟨b, 1, none⟩ rfl _⟩

end Go.Proofs.YtbcmfcddkegcoaaGreatDoor

/-! What writing a text to a Builder does, at this program: WriteString. -/
namespace Go.Proofs.YtbcmfcddkegcoaaGreatDoor
open Go.RowKit Go.Shelf

set_option maxHeartbeats 2000000 in
set_option maxRecDepth 100000 in
/-- WriteString: the bytes behind those that are there; what is no row of bytes and not the Builder stands as it stood. -/
theorem writeString (B b : Nat) (bs : List Value) (s : ByteArray) (w : World) (h : Lib.IsBuilderF 53 5 B b bs w) (hlen : bs.length + s.size ≤ 140737488355328) (hBw : B ≤ w.heap.size) :
    Calls Tryz.prog 19 #[.pointer (some ⟨b, 0, none⟩), .string s] w fun e w' => e = .returned (.tuple #[.int .i64 s.size, .nilIface]) ∧ Lib.BuilderAtF 53 5 B b (.pointer (some ⟨b, 0, none⟩)) (bs ++ Lib.strCells s) w' ∧ Below B w w' ∧ Lib.OthersKept 5 (some b) w w' := by
  obtain ⟨i0, hi, hz0, hz1, hz2⟩ := info_parts infoByte
  go_enter Tryz.func19, Tryz.ntmps19
  go_wp2_with (go_at_call 42; refine (copyCheck B b bs _ h).mono ?_)
  rintro e w1 ⟨rfl, h1, hb1, hk1⟩
  obtain ⟨hB, v, hbk, hown, hne⟩ := h1
  have hs1 := hb1.size
  have c0 : w1.cell? ⟨b, 0, none⟩ = some (.pointer (some ⟨b, 0, none⟩)) := by rw [Lib.cell_of_heap hbk]; rfl
  have c1 : w1.cell? ⟨b, 1, none⟩ = some v := by rw [Lib.cell_of_heap hbk]; rfl
  go_wp2_with (at_builtin; refine Lib.wpList_append_own_stringF _ rfl _ _ 25 9 rfl B 5 i0 Tryz.underlying25 Tryz.underlying9 hi hz0 hz1 hz2 _ _ _ rfl hown s rfl ?c3 ?c4 ?c5 ?_)
  case c3 => unfold maxLen; omega
  case c4 => omega
  case c5 => omega
  intro v' w2 hown' hgrow _
  have hb2 : w2.heap[b]? = some (.cells #[.pointer (some ⟨b, 0, none⟩), v] 53 (0, 0)) := by
    rw [hgrow.block b (lt_of_block hbk) (fun e => hne e.symm)]
    exact hbk
  have d0 : w2.cell? ⟨b, 0, none⟩ = some (.pointer (some ⟨b, 0, none⟩)) := by rw [Lib.cell_of_heap hb2]; rfl
  have d1 : w2.cell? ⟨b, 1, none⟩ = some v := by rw [Lib.cell_of_heap hb2]; rfl
  have f1 : w2.frozen? ⟨b, 1, none⟩ = false := Lib.frozen_of_heap hb2 1
  obtain ⟨ao, n', cap, rfl⟩ : ∃ ao n' cap, v' = .slice ao n' cap := by
    rcases hown'.2 with ⟨hv, _⟩ | ⟨g, cap, cur, fz, hv, _⟩
    · exact ⟨_, _, _, hv⟩
    · exact ⟨_, _, _, hv⟩
  go_wp2
  go_ret2
  exact ⟨rfl, Lib.BuilderAtF.put (T := 53) (e := 5) hB hb2 (bs' := bs ++ Lib.strCells s) (by simpa [Lib.strCells_length] using hown') (by decide),
    (hb1.grown hgrow (by omega) (fun k hk => (hown.lt k hk).1)).setCell (p := ⟨b, 1, none⟩) hB _, (hk1.grown hgrow (Lib.ownsRowF_kind hown)).setCell ⟨b, 1, none⟩ rfl _⟩

end Go.Proofs.YtbcmfcddkegcoaaGreatDoor

/-! What package lines' Norm and Clean answer, for every text. -/
namespace Go.Proofs.YtbcmfcddkegcoaaGreatDoor
open Go.RowKit Go.Lib

theorem norm_one (s : ByteArray) (i : Nat) (h : i < s.size) (acc : List UInt8) (hc : s[i] ≠ 13) (heq : acc ++ normL (s.data.toList.drop i) = normL s.data.toList) :
    (acc ++ [s[i]]) ++ normL (s.data.toList.drop (i + 1)) = normL s.data.toList := by
  rw [← heq, drop_at s i h, normL, if_pos hc, List.append_assoc]; rfl
theorem norm_two (s : ByteArray) (i : Nat) (h : i + 1 < s.size) (acc : List UInt8) (hc : s[i]'(by omega) = 13) (hd : s[i + 1] = 10) (heq : acc ++ normL (s.data.toList.drop i) = normL s.data.toList) :
    acc ++ normL (s.data.toList.drop (i + 1)) = normL s.data.toList := by
  rw [← heq, drop_at s i (by omega), normL, hc, drop_at s (i + 1) h, hd]; rfl
theorem norm_end (s : ByteArray) (i : Nat) (h : i < s.size) (acc : List UInt8) (hc : s[i] = 13) (hd : ∀ h : i + 1 < s.size, s[i + 1] ≠ 10) (heq : acc ++ normL (s.data.toList.drop i) = normL s.data.toList) :
    (acc ++ [10]) ++ normL (s.data.toList.drop (i + 1)) = normL s.data.toList := by
  have hh : (s.data.toList.drop (i + 1)).head? ≠ some 10 := by
    by_cases h1 : i + 1 < s.size
    · rw [drop_at s (i + 1) h1]; simpa using hd h1
    · rw [List.drop_eq_nil_of_le (by rw [← Lib.size_eq]; omega)]; simp
  rw [← heq, drop_at s i h, normL, hc]
  simp only [ne_eq, not_true_eq_false, if_false, if_neg hh, List.append_assoc]; rfl

set_option maxRecDepth 100000 in
set_option maxHeartbeats 4000000 in
theorem norm_any (s : ByteArray) (w : World) (hs : s.size ≤ 1099511627776) :
    Calls Tryz.prog 25 #[.string s] w fun e w' => e = .returned (.string ⟨(normL s.data.toList).toArray⟩) ∧ Below w.heap.size w w' := by
  go_enter Tryz.func25, Tryz.ntmps25
  go_wp2
  refine wp_scope_label 0 (fun a' wr => ∃ (at_ : Nat) (acc : List UInt8) (u1 u5 u6 u7 u8 u9 u10 u11 u12 u13 u14 u15 u16 u17 u18 u19 u20 u21 u22 u23 u24 u25 u26 u27 u28 u29 u30 u31 u32 u33 u34 u35 u36 u37 : Value), a' = { tmps := #[.string s, u1, .string ⟨#[]⟩, .pointer (some ⟨w.heap.size, 0, none⟩), .int .i64 (at_ : Int), u5, u6, u7, u8, u9, u10, u11, u12, u13, u14, u15, u16, u17, u18, u19, u20, u21, u22, u23, u24, u25, u26, u27, u28, u29, u30, u31, u32, u33, u34, u35, u36, u37], defers := [] } ∧ Lib.IsBuilderF 53 5 w.heap.size w.heap.size (Lib.byteCells acc) wr ∧ Below w.heap.size w wr ∧ at_ ≤ s.size ∧ acc ++ normL (s.data.toList.drop at_) = normL s.data.toList ∧ acc.length ≤ at_)
    (fun a' _ => s.size - (intOf (a'.tmps.getD 4 undef)).toNat) rfl ?_ ?_
  · rintro a' wr ⟨at_, acc, u1, u5, u6, u7, u8, u9, u10, u11, u12, u13, u14, u15, u16, u17, u18, u19, u20, u21, u22, u23, u24, u25, u26, u27, u28, u29, u30, u31, u32, u33, u34, u35, u36, u37, rfl, hI, hbw, hle, heq, hacc⟩
    have hsz := hbw.size
    by_cases hend : at_ = s.size
    · subst hend
      go_wp2_with (go_at_call 18; refine (Tryz.Builder_String_any_k w.heap.size w.heap.size acc _ hI (by omega)).mono ?_)
      rintro e W1 ⟨rfl, _, b1, _⟩
      go_wp2
      simp only [Exit.jump]
      go_ret
      refine ⟨ret_str ?_, hbw.trans b1⟩
      rw [← heq, List.drop_eq_nil_of_le (by rw [← Lib.size_eq]; omega)]; simp [normL]
    · have hlt : at_ < s.size := by omega
      have HE := Lib.hid heq
      clear heq
      by_cases h13 : ((s[at_].toNat : Nat) : Int) = 13
      · by_cases hlt1 : at_ + 1 < s.size
        · by_cases h10 : ((s[at_ + 1].toNat : Nat) : Int) = 10
          · go_wp2
            go_step3
            refine ⟨rfl, ⟨at_ + 1, acc, _, _, _, _, _, _, _, _, _, _, _, _, _, _, _, _, _, _, _, _, _, _, _, _, _, _, _, _, _, _, _, _, _, _, rfl, hI, hbw, by omega, norm_two s at_ (by omega) acc (u8_eq _ 13 (by decide) h13) (u8_eq _ 10 (by decide) h10) HE.out, by omega⟩, ?_⟩
            simp [intOf]; omega
          · have h10' : (((s[at_ + 1].toNat : Nat) : Int) == 10) = false := by simpa using h10
            go_wp2_with (go_at_call 20; refine (writeByte w.heap.size w.heap.size _ _ _ hI (by rw [byteCells_length]; omega) hsz).mono ?_)
            rintro e w1 ⟨rfl, h1, b1, -⟩
            go_wp2
            go_step3
            refine ⟨rfl, ⟨at_ + 1, acc ++ [10], _, _, _, _, _, _, _, _, _, _, _, _, _, _, _, _, _, _, _, _, _, _, _, _, _, _, _, _, _, _, _, _, _, _, rfl, by rw [byteCells_append]; exact .inr h1, hbw.trans b1, by omega, norm_end s at_ hlt acc (u8_eq _ 13 (by decide) h13) (fun _ => u8_ne _ 10 (by decide) h10) HE.out, by simp; omega⟩, ?_⟩
            simp [intOf]; omega
        · go_wp2_with (go_at_call 20; refine (writeByte w.heap.size w.heap.size _ _ _ hI (by rw [byteCells_length]; omega) hsz).mono ?_)
          rintro e w1 rfl h1 b1 -
          go_wp2
          go_step3
          refine ⟨rfl, ⟨at_ + 1, acc ++ [10], _, _, _, _, _, _, _, _, _, _, _, _, _, _, _, _, _, _, _, _, _, _, _, _, _, _, _, _, _, _, _, _, _, _, rfl, by rw [byteCells_append]; exact .inr h1, hbw.trans b1, by omega, norm_end s at_ hlt acc (u8_eq _ 13 (by decide) h13) (fun _ => absurd ‹_› (by omega)) HE.out, by simp; omega⟩, ?_⟩
          simp [intOf]; omega
      · have h13' : (((s[at_].toNat : Nat) : Int) != 13) = true := by simpa using h13
        go_wp2_with (go_at_call 20; refine (writeByte w.heap.size w.heap.size _ _ _ hI (by rw [byteCells_length]; omega) hsz).mono ?_)
        rintro e w1 ⟨rfl, h1, b1, -⟩
        go_wp2
        go_step3
        refine ⟨rfl, ⟨at_ + 1, acc ++ [s[at_]], _, _, _, _, _, _, _, _, _, _, _, _, _, _, _, _, _, _, _, _, _, _, _, _, _, _, _, _, _, _, _, _, _, _, rfl, by rw [byteCells_append]; exact .inr h1, hbw.trans b1, by omega, norm_one s at_ hlt acc (u8_ne _ 13 (by decide) h13) HE.out, by simp; omega⟩, ?_⟩
        simp [intOf]; omega
  · intro hpass
    go_wp2_with (fail)
    refine (Tryz.Builder_Grow_fresh w.heap.size w.heap.size s.size _ (Nat.le_refl _) (heap_alloc_new w _) (by simp) (by omega)).mono ?_
    rintro e w2 ⟨rfl, hB0, hbel0⟩
    have hI0 : Lib.IsBuilderF 53 5 w.heap.size w.heap.size [] w2 := Lib.IsBuilderF.of (.inr hB0)
    go_wp2
    go_step3
    rename_i K hK
    refine hK _ _ (hpass _ _ ?_)
    exact ⟨0, [], _, _, _, _, _, _, _, _, _, _, _, _, _, _, _, _, _, _, _, _, _, _, _, _, _, _, _, _, _, _, _, _, _, _, rfl, hI0, ((Below.refl _ w).alloc (Nat.le_refl _) _).trans hbel0, Nat.zero_le _, rfl, Nat.zero_le _⟩

theorem clean_zero (s : ByteArray) (i : Nat) (h : i < s.size) (acc : List UInt8) (hc : s[i] = 0) (heq : acc ++ cleanL (s.data.toList.drop i) = cleanL s.data.toList) :
    (acc ++ [239, 191, 189]) ++ cleanL (s.data.toList.drop (i + 1)) = cleanL s.data.toList := by
  rw [← heq, drop_at s i h, cleanL, hc, if_pos rfl, List.append_assoc]; rfl
theorem clean_one (s : ByteArray) (i : Nat) (h : i < s.size) (acc : List UInt8) (hc : s[i] ≠ 0) (heq : acc ++ cleanL (s.data.toList.drop i) = cleanL s.data.toList) :
    (acc ++ [s[i]]) ++ cleanL (s.data.toList.drop (i + 1)) = cleanL s.data.toList := by
  rw [← heq, drop_at s i h, cleanL, if_neg hc, List.append_assoc]; rfl
theorem strCells_bad : strCells ⟨#[239, 191, 189]⟩ = byteCells [239, 191, 189] := rfl

set_option maxRecDepth 100000 in
set_option maxHeartbeats 4000000 in
theorem clean_any (s : ByteArray) (w : World) (hs : s.size ≤ 1099511627776) :
    Calls Tryz.prog 9 #[.string s] w fun e w' => e = .returned (.string ⟨(cleanL s.data.toList).toArray⟩) ∧ Below w.heap.size w w' := by
  go_enter Tryz.func9, Tryz.ntmps9
  go_wp2
  refine wp_scope_label 0 (fun a' wr => ∃ (at_ : Nat) (acc : List UInt8) (u1 u5 u6 u7 u8 u9 u10 u11 u12 u13 u14 u15 u16 u17 u18 u19 u20 u21 u22 u23 : Value), a' = { tmps := #[.string s, u1, .string ⟨#[]⟩, .pointer (some ⟨w.heap.size, 0, none⟩), .int .i64 (at_ : Int), u5, u6, u7, u8, u9, u10, u11, u12, u13, u14, u15, u16, u17, u18, u19, u20, u21, u22, u23], defers := [] } ∧ Lib.IsBuilderF 53 5 w.heap.size w.heap.size (Lib.byteCells acc) wr ∧ Below w.heap.size w wr ∧ at_ ≤ s.size ∧ acc ++ cleanL (s.data.toList.drop at_) = cleanL s.data.toList ∧ acc.length ≤ 3 * at_)
    (fun a' _ => s.size - (intOf (a'.tmps.getD 4 undef)).toNat) rfl ?_ ?_
  · rintro a' wr ⟨at_, acc, u1, u5, u6, u7, u8, u9, u10, u11, u12, u13, u14, u15, u16, u17, u18, u19, u20, u21, u22, u23, rfl, hI, hbw, hle, heq, hacc⟩
    have hsz := hbw.size
    by_cases hend : at_ = s.size
    · subst hend
      go_wp2_with (go_at_call 18; refine (Tryz.Builder_String_any_k w.heap.size w.heap.size acc _ hI (by omega)).mono ?_)
      rintro e W1 ⟨rfl, _, b1, _⟩
      go_wp2
      simp only [Exit.jump]
      go_ret
      refine ⟨ret_str ?_, hbw.trans b1⟩
      rw [← heq, List.drop_eq_nil_of_le (by rw [← Lib.size_eq]; omega)]; simp [cleanL]
    · have hlt : at_ < s.size := by omega
      have HE := Lib.hid heq
      clear heq
      by_cases h0 : ((s[at_].toNat : Nat) : Int) = 0
      · go_wp2_with (go_at_call 19; refine (writeString w.heap.size w.heap.size _ _ _ hI (by rw [byteCells_length]; have : (ByteArray.mk #[239, 191, 189]).size = 3 := rfl; omega) hsz).mono ?_)
        rintro e w1 ⟨rfl, h1, b1, -⟩
        go_wp2
        go_step3
        refine ⟨rfl, ⟨at_ + 1, acc ++ [239, 191, 189], _, _, _, _, _, _, _, _, _, _, _, _, _, _, _, _, _, _, _, _, rfl, by rw [byteCells_append, ← strCells_bad]; exact .inr h1, hbw.trans b1, by omega, clean_zero s at_ hlt acc (u8_eq _ 0 (by decide) h0) HE.out, by simp; omega⟩, ?_⟩
        simp [intOf]; omega
      · have h0' : (((s[at_].toNat : Nat) : Int) == 0) = false := by simpa using h0
        go_wp2_with (go_at_call 20; refine (writeByte w.heap.size w.heap.size _ _ _ hI (by rw [byteCells_length]; omega) hsz).mono ?_)
        rintro e w1 ⟨rfl, h1, b1, -⟩
        go_wp2
        go_step3
        refine ⟨rfl, ⟨at_ + 1, acc ++ [s[at_]], _, _, _, _, _, _, _, _, _, _, _, _, _, _, _, _, _, _, _, _, rfl, by rw [byteCells_append]; exact .inr h1, hbw.trans b1, by omega, clean_one s at_ hlt acc (u8_ne _ 0 (by decide) h0) HE.out, by simp; omega⟩, ?_⟩
        simp [intOf]; omega
  · intro hpass
    go_wp2_with (fail)
    refine (Tryz.Builder_Grow_fresh w.heap.size w.heap.size s.size _ (Nat.le_refl _) (heap_alloc_new w _) (by simp) (by omega)).mono ?_
    rintro e w2 ⟨rfl, hB0, hbel0⟩
    have hI0 : Lib.IsBuilderF 53 5 w.heap.size w.heap.size [] w2 := Lib.IsBuilderF.of (.inr hB0)
    go_wp2
    go_step3
    rename_i K hK
    refine hK _ _ (hpass _ _ ?_)
    exact ⟨0, [], _, _, _, _, _, _, _, _, _, _, _, _, _, _, _, _, _, _, _, _, rfl, hI0, ((Below.refl _ w).alloc (Nat.le_refl _) _).trans hbel0, Nat.zero_le _, rfl, Nat.zero_le _⟩

end Go.Proofs.YtbcmfcddkegcoaaGreatDoor

/-! What the document's Norm and Clean of layer 2 answer, for every text; the chapter's examples. -/
namespace Go.Proofs.YtbcmfcddkegcoaaGreatDoor
open Go.RowKit Go.Lib

end Go.Proofs.YtbcmfcddkegcoaaGreatDoor

/-! What package sign's Lower answers, for every text. -/
namespace Go.Proofs.YtbcmfcddkegcoaaGreatDoor
open Go.RowKit Go.Lib

theorem low_one (s : ByteArray) (i : Nat) (h : i < s.size) (acc : List UInt8) (heq : acc ++ lowL (s.data.toList.drop i) = lowL s.data.toList) :
    (acc ++ [lowB s[i]]) ++ lowL (s.data.toList.drop (i + 1)) = lowL s.data.toList := by
  rw [← heq, drop_at s i h, lowL_cons, List.append_assoc]; rfl
theorem byteCells_one (acc : List UInt8) (c : UInt8) : byteCells (acc ++ [c]) = byteCells acc ++ [.int .u8 (c.toNat : Int)] := by rw [byteCells_append]; rfl

set_option maxRecDepth 100000 in
set_option maxHeartbeats 4000000 in
theorem lower (s : ByteArray) (w : World) (hs : s.size ≤ 1099511627776) :
    Calls Tryz.prog 102 #[.string s] w fun e w' => e = .returned (.string (lowS s)) ∧ Below w.heap.size w w' := by
  go_enter Tryz.func102, Tryz.ntmps102
  go_wp2_with (fail)
  refine (Tryz.Builder_Grow_fresh w.heap.size w.heap.size s.size _ (Nat.le_refl _) (heap_alloc_new w _) (by simp) (by omega)).mono ?_
  rintro e w2 ⟨rfl, hB0, hbel0⟩
  have hI0 : Lib.IsBuilderF 53 5 w.heap.size w.heap.size [] w2 := Lib.IsBuilderF.of (.inr hB0)
  have hb0 : Below w.heap.size w w2 := ((Below.refl _ w).alloc (Nat.le_refl _) _).trans hbel0
  clear hB0 hbel0
  go_wp2
  go_loopw [10] (fun v wr => ∃ (i : Nat) (acc : List UInt8), v = .int .i64 (i : Int) ∧ Lib.IsBuilderF 53 5 w.heap.size w.heap.size (Lib.byteCells acc) wr ∧ Below w.heap.size w wr ∧ i ≤ s.size ∧ acc ++ lowL (s.data.toList.drop i) = lowL s.data.toList ∧ acc.length ≤ i) (fun v _ => s.size - (intOf v).toNat)
  case atStart => exact ⟨0, [], rfl, hI0, hb0, Nat.zero_le _, rfl, Nat.zero_le _⟩
  case round =>
    obtain ⟨i, acc, rfl, hI, hbw, hle, heq, hacc⟩ := hrel
    have hsz := hbw.size
    have HE := Lib.hid heq
    clear heq
    by_cases hlt : i < s.size
    · have hq := (s[i]'hlt).toNat_lt
      have LB := Lib.hid (lowB_int (s[i]'hlt))
      go_wp2_with (fail)
      refine (small _ _ (by omega) (by omega)).mono ?_
      rintro e w' ⟨rfl, rfl⟩
      rw [← LB.out]
      go_wp2_with (fail)
      refine (writeByte w.heap.size w.heap.size _ _ _ hI (by rw [byteCells_length]; omega) hsz).mono ?_
      rintro e w1 ⟨rfl, h1, b1, -⟩
      go_wp2
      go_roundw
      case rel => exact ⟨i + 1, acc ++ [lowB s[i]], rfl, by rw [byteCells_one]; exact .inr h1, hbw.trans b1, by omega, low_one s i hlt acc HE.out, by simp; omega⟩
      case measure => simp [intOf]; omega
    · go_wp2_with (go_at_call 18; refine (Tryz.Builder_String_any_k w.heap.size w.heap.size acc _ hI (by omega)).mono ?_)
      rintro e W1 ⟨rfl, _, b1, _⟩
      go_wp2
      go_ret
      refine ⟨ret_str ?_, hbw.trans b1⟩
      have := HE.out
      rw [List.drop_eq_nil_of_le (by rw [← Lib.size_eq]; omega), lowL, List.map_nil, List.append_nil] at this
      rw [this]; rfl

end Go.Proofs.YtbcmfcddkegcoaaGreatDoor
