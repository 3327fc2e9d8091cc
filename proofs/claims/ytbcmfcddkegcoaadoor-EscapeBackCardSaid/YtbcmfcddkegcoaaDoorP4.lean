/-
  Texts laid together: LinesMath, BldB, Bld, LinesCode, LinesRef, SignLow.
-/
import Derived.WalkKit
import Derived.Test.YtbcmfcddkegcoaaDoorShelf
import Derived.BigCall
import Derived.Lib.RuneBytes
import Derived.Lib.Hide
import Derived.Test.YtbcmfcddkegcoaaDoorP3
import Derived.Test.YtbcmfcddkegcoaaDoorP1
import Derived.Lib.Bytes
import Derived.WalkSpells
import Derived.WalkLawsBesides
/-! Lists of bytes with their lines' ends made one (normL), and with the byte 0 told otherwise (cleanL): plain mathematics. -/
namespace Go.Proofs.YtbcmfcddkegcoaaDoor

/-- ends of lines made one -/
def normL : List UInt8 → List UInt8
  | [] => []
  | c :: r => if c ≠ 13 then c :: normL r else if r.head? = some 10 then normL r else 10 :: normL r
/-- the same, told by what stands ahead -/
def normP : Bool → List UInt8 → List UInt8
  | _, [] => []
  | p, c :: r => if c = 13 then 10 :: normP true r else if c = 10 ∧ p = true then normP false r else c :: normP false r
/-- api.Bad for the byte 0 -/
def cleanL : List UInt8 → List UInt8
  | [] => []
  | c :: r => if c = 0 then 239 :: 191 :: 189 :: cleanL r else c :: cleanL r

theorem normP_eq : ∀ l : List UInt8, normP false l = normL l ∧ 10 :: normP true l = normL (13 :: l)
  | [] => ⟨rfl, rfl⟩
  | c :: r => by
    obtain ⟨h1, h2⟩ := normP_eq r
    by_cases h : c = 13
    · subst h
      have e1 : normP false (13 :: r) = 10 :: normP true r := by simp [normP]
      have e2 : normP true (13 :: r) = 10 :: normP true r := by simp [normP]
      refine ⟨by rw [e1, h2], ?_⟩
      rw [e2, h2]
      rw [show normL (13 :: 13 :: r) = 10 :: normL (13 :: r) from by rw [normL]; simp]
    · have e1 : normP false (c :: r) = c :: normP false r := by simp [normP, h]
      have e0 : normL (c :: r) = c :: normL r := by rw [normL]; simp [h]
      refine ⟨by rw [e1, e0, h1], ?_⟩
      by_cases h' : c = 10
      · subst h'
        have e2 : normP true (10 :: r) = normP false r := by simp [normP]
        rw [e2, h1, show normL (13 :: 10 :: r) = normL (10 :: r) from by rw [normL]; simp, e0]
      · have e2 : normP true (c :: r) = c :: normP false r := by simp [normP, h, h']
        rw [e2, h1, show normL (13 :: c :: r) = 10 :: normL (c :: r) from by rw [normL]; simp [h'], e0]
theorem normP_false (l : List UInt8) : normP false l = normL l := (normP_eq l).1

theorem normP_no13 : ∀ (p : Bool) (l : List UInt8), 13 ∉ normP p l
  | _, [] => by simp [normP]
  | p, c :: r => by
    rw [normP]
    split
    · have := normP_no13 true r
      simp only [List.mem_cons, not_or]; exact ⟨by decide, this⟩
    · split
      · exact normP_no13 false r
      · rename_i h1 h2
        simp only [List.mem_cons, not_or]; exact ⟨fun h => h1 h.symm, normP_no13 false r⟩
theorem normL_no13 (l : List UInt8) : 13 ∉ normL l := by rw [← normP_false]; exact normP_no13 false l
theorem normL_same : ∀ l : List UInt8, 13 ∉ l → normL l = l
  | [], _ => rfl
  | c :: r, h => by
    simp only [List.mem_cons, not_or] at h
    rw [normL, if_pos (fun e => h.1 e.symm), normL_same r h.2]
theorem normL_iff (l : List UInt8) : normL l = l ↔ 13 ∉ l := ⟨fun h => h ▸ normL_no13 l, normL_same l⟩
theorem normL_twice (l : List UInt8) : normL (normL l) = normL l := normL_same _ (normL_no13 l)
theorem normP_len : ∀ (p : Bool) (l : List UInt8), (normP p l).length ≤ l.length
  | _, [] => by simp [normP]
  | p, c :: r => by
    have h1 := normP_len true r
    have h2 := normP_len false r
    rw [normP]; repeat' split
    all_goals simp; try omega
theorem normL_len (l : List UInt8) : (normL l).length ≤ l.length := by rw [← normP_false]; exact normP_len false l

theorem cleanL_no0 : ∀ l : List UInt8, 0 ∉ cleanL l
  | [] => by simp [cleanL]
  | c :: r => by
    have := cleanL_no0 r
    rw [cleanL]; split
    · simp only [List.mem_cons, not_or]; exact ⟨by decide, by decide, by decide, this⟩
    · rename_i h
      simp only [List.mem_cons, not_or]; exact ⟨fun e => h e.symm, this⟩
theorem cleanL_same : ∀ l : List UInt8, 0 ∉ l → cleanL l = l
  | [], _ => rfl
  | c :: r, h => by
    simp only [List.mem_cons, not_or] at h
    rw [cleanL, if_neg (fun e => h.1 e.symm), cleanL_same r h.2]
theorem cleanL_iff (l : List UInt8) : cleanL l = l ↔ 0 ∉ l := ⟨fun h => h ▸ cleanL_no0 l, cleanL_same l⟩
theorem cleanL_twice (l : List UInt8) : cleanL (cleanL l) = cleanL l := cleanL_same _ (cleanL_no0 l)
theorem cleanL_len : ∀ l : List UInt8, l.length ≤ (cleanL l).length ∧ (cleanL l).length ≤ 3 * l.length
  | [] => by simp [cleanL]
  | c :: r => by
    have := cleanL_len r
    rw [cleanL]; split <;> simp <;> omega
theorem cleanL_app : ∀ a b : List UInt8, cleanL (a ++ b) = cleanL a ++ cleanL b
  | [], _ => rfl
  | c :: r, b => by
    have := cleanL_app r b
    rw [List.cons_append, cleanL, cleanL]; split <;> simp [this]

/-- texts behind texts, but where 13 and 10 meet -/
theorem normL_app : ∀ (a b : List UInt8), ¬ (a.getLast? = some 13 ∧ b.head? = some 10) → normL (a ++ b) = normL a ++ normL b
  | [], _, _ => rfl
  | [c], b, h => by
    by_cases hc : c = 13
    · subst hc
      have hb : b.head? ≠ some 10 := fun e => h ⟨rfl, e⟩
      show normL (13 :: b) = normL [13] ++ normL b
      rw [normL]; simp only [ne_eq, not_true_eq_false, if_false, if_neg hb]
      rfl
    · show normL (c :: b) = normL [c] ++ normL b
      rw [normL, if_pos hc, show normL [c] = [c] from by rw [normL, if_pos hc]; rfl]; rfl
  | c :: d :: r, b, h => by
    have ih := normL_app (d :: r) b (by rwa [List.getLast?_cons_cons] at h)
    rw [List.cons_append, normL, normL, ih]
    simp only [List.cons_append, List.head?_cons]
    by_cases hc : c ≠ 13
    · simp [if_pos hc]
    · simp only [if_neg hc]
      by_cases hd : d = 10
      · simp [hd]
      · simp [hd]
theorem normL_meet (a b : List UInt8) (ha : a.getLast? = some 13) : normL (a ++ 10 :: b) = normL a ++ normL b := by
  obtain ⟨x, rfl⟩ : ∃ x, a = x ++ [13] := by
    rcases List.eq_nil_or_concat a with rfl | ⟨x, y, rfl⟩
    · simp at ha
    · refine ⟨x, ?_⟩
      rw [List.concat_eq_append, List.getLast?_concat] at ha
      injection ha with ha; subst ha; simp
  rw [List.append_assoc, normL_app x _ (by simp), normL_app x [13] (by simp), List.append_assoc]
  rfl

/-- lines' ends, and what is none, by what stands ahead -/
def endsP : Bool → List UInt8 → Nat
  | _, [] => 0
  | p, c :: r => if c = 13 then endsP true r + 1 else if c = 10 ∧ p = false then endsP false r + 1 else endsP false r
def restL (l : List UInt8) : List UInt8 := l.filter (fun c => c != 13 && c != 10)
theorem count_normP : ∀ (p : Bool) (l : List UInt8), (normP p l).count 10 = endsP p l
  | _, [] => rfl
  | p, c :: r => by
    have h1 := count_normP true r
    have h2 := count_normP false r
    rw [normP, endsP]
    by_cases h : c = 13
    · rw [if_pos h, if_pos h, List.count_cons_self, h1]
    · rw [if_neg h, if_neg h]
      by_cases h' : c = 10
      · cases p <;> simp [h', h2]
      · simp [h', h2]
theorem rest_normP : ∀ (p : Bool) (l : List UInt8), (normP p l).filter (fun c => c != 10) = restL l
  | _, [] => rfl
  | p, c :: r => by
    have h1 := rest_normP true r
    have h2 := rest_normP false r
    unfold restL at *
    rw [normP]
    by_cases h : c = 13
    · rw [if_pos h]; subst h; simp [h1]
    · rw [if_neg h]
      by_cases h' : c = 10
      · cases p <;> simp [h', h2]
      · simp [h', h2, h]
theorem clean_norm (l : List UInt8) : normL (cleanL l) = cleanL (normL l) := by
  induction l with
  | nil => rfl
  | cons c r ih =>
    by_cases h : c = 13
    · subst h
      have hh : (cleanL r).head? = some 10 ↔ r.head? = some 10 := by
        cases r with
        | nil => simp [cleanL]
        | cons d t =>
          rw [cleanL]; split
          · rename_i hd; subst hd; simp
          · simp
      have e : cleanL (13 :: r) = 13 :: cleanL r := by rw [cleanL]; simp
      rw [e, normL, normL]
      by_cases h10 : r.head? = some 10
      · have := hh.2 h10; simp [h10, this, ih]
      · have : ¬ (cleanL r).head? = some 10 := fun x => h10 (hh.1 x)
        simp only [ne_eq, not_true_eq_false, if_false, if_neg h10, if_neg this, ih]
        rw [cleanL]; simp
    · have e : normL (c :: r) = c :: normL r := by rw [normL, if_pos h]
      rw [e, cleanL, cleanL]
      split
      · rw [normL, if_pos (by decide), normL, if_pos (by decide), normL, if_pos (by decide), ih]
      · rw [normL, if_pos h, ih]

end Go.Proofs.YtbcmfcddkegcoaaDoor

/-! What writing to a Builder does, at this program: copyCheck, WriteByte. (The library's own contracts speak of another text of copyCheck: in this program its last arm is cut off.) -/
namespace Go.Proofs.YtbcmfcddkegcoaaDoor
open Go.RowKit Go.Shelf

theorem sizeBuilder : (Tryd.prog.info? 31).map (·.size) = some 2 := by kernel_rfl
theorem liesBuilder : liesAt Tryd.prog Tryd.prog.depth 31 (2 / Tryd.prog.cellsOf 31) 0 31 1 = true := by kernel_rfl

set_option maxHeartbeats 1000000 in
set_option maxRecDepth 100000 in
theorem copyCheck_used (b : Nat) (w : World) (h0 : w.cell? ⟨b, 0, none⟩ = some (.pointer (some ⟨b, 0, none⟩))) :
    Calls Tryd.prog 17 #[.pointer (some ⟨b, 0, none⟩)] w fun e w' => e = .returned (.tuple #[]) ∧ w = w' := by
  obtain ⟨j, hj, _⟩ := Option.map_eq_some_iff.1 sizeBuilder
  go_enter Tryd.func17, Tryd.ntmps17
  go_wp2
  rw [Lib.run_neq_ptr_same w _ Tryd.underlying28 hj]
  go_wp2
  go_end0
  exact ⟨rfl, rfl⟩

set_option maxHeartbeats 1000000 in
set_option maxRecDepth 100000 in
theorem copyCheck_fresh (b : Nat) (w : World) (h0 : w.cell? ⟨b, 0, none⟩ = some (.pointer none)) (hsh : w.shape? b = some (31, 2)) (hfz : w.frozen? ⟨b, 0, none⟩ = false) :
    Calls Tryd.prog 17 #[.pointer (some ⟨b, 0, none⟩)] w fun e w' => e = .returned (.tuple #[]) ∧ w' = w.setCell ⟨b, 0, none⟩ (.pointer (some ⟨b, 0, none⟩)) := by
  obtain ⟨j, hj, hjs⟩ := Option.map_eq_some_iff.1 sizeBuilder
  go_enter Tryd.func17, Tryd.ntmps17
  go_wp2
  rw [Lib.run_to_unsafe w ⟨b, 0, none⟩ Tryd.underlying28 Tryd.underlying58 hj (by rw [hjs]; decide) hsh (Nat.zero_lt_succ 1)]
  simp only [Result.andThen]
  rw [Oper.upon_value]
  go_wp2
  rw [run_callFunc_extern Tryd.func31 (by kernel_rfl) (by kernel_rfl) (by kernel_rfl) (e := Extern.AbiNoEscape.same) (by kernel_rfl)]
  rw [Lib.run_noEscape]
  simp only [Result.andThen]
  rw [Oper.upon_value]
  go_wp2
  rw [Lib.run_from_unsafe w ⟨b, 0, none⟩ Tryd.underlying58 Tryd.underlying28 hj hsh liesBuilder]
  simp only [Result.andThen]
  rw [Oper.upon_value]
  go_wp2
  go_end0
  exact ⟨rfl, rfl⟩

theorem copyCheck (B b : Nat) (bs : List Value) (w : World) (h : Lib.IsBuilderF 31 5 B b bs w) :
    Calls Tryd.prog 17 #[.pointer (some ⟨b, 0, none⟩)] w fun e w' => e = .returned (.tuple #[]) ∧ Lib.BuilderAtF 31 5 B b (.pointer (some ⟨b, 0, none⟩)) bs w' ∧ Below B w w' ∧ Lib.OthersKept 5 (some b) w w' := by
  rcases h with h | h
  · refine (copyCheck_fresh b w h.cell0 h.shape h.frozen0).mono ?_
    rintro e w' ⟨rfl, rfl⟩
    exact ⟨rfl, h.used _, (Below.refl B w).setCell (p := ⟨b, 0, none⟩) h.1 _, (Lib.OthersKept.refl _ _ w).setCell ⟨b, 0, none⟩ rfl _⟩
  · refine (copyCheck_used b w h.cell0).mono ?_
    rintro e w' ⟨rfl, rfl⟩
    exact ⟨rfl, h, Below.refl B _, Lib.OthersKept.refl _ _ _⟩

theorem infoByte : (Tryd.prog.info? 5).map (fun i => (i.zero, i.size, i.bytes)) = some (some (.int .u8 0), 1, 1) := by kernel_rfl

/-- a block that stands -/
theorem lt_of_block {w : World} {b : Nat} {o : Obj} (h : w.heap[b]? = some o) : b < w.heap.size := (Array.getElem?_eq_some_iff.1 h).1

set_option maxHeartbeats 2000000 in
set_option maxRecDepth 100000 in
/-- WriteByte: one byte more. -/
theorem writeByte (B b : Nat) (bs : List Value) (c : Int) (w : World) (h : Lib.IsBuilderF 31 5 B b bs w) (hlen : bs.length + 1 ≤ 140737488355328) (hBw : B ≤ w.heap.size) :
    Calls Tryd.prog 12 #[.pointer (some ⟨b, 0, none⟩), .int .u8 c] w fun e w' => e = .returned .nilIface ∧ Lib.BuilderAtF 31 5 B b (.pointer (some ⟨b, 0, none⟩)) (bs ++ [.int .u8 c]) w' ∧ Below B w w' ∧ Lib.OthersKept 5 (some b) w w' := by
  obtain ⟨i0, hi, hz0, hz1, hz2⟩ := info_parts infoByte
  go_enter Tryd.func12, Tryd.ntmps12
  go_wp2_with (go_at_call 17; refine (copyCheck B b bs _ h).mono ?_)
  rintro e w1 ⟨rfl, h1, hb1, hk1⟩
  obtain ⟨hB, v, hbk, hown, hne⟩ := h1
  have hs1 := hb1.size
  have c0 : w1.cell? ⟨b, 0, none⟩ = some (.pointer (some ⟨b, 0, none⟩)) := by rw [Lib.cell_of_heap hbk]; rfl
  have c1 : w1.cell? ⟨b, 1, none⟩ = some v := by rw [Lib.cell_of_heap hbk]; rfl
  go_wp2_with (at_builtin; refine wpList_append_ownF _ rfl _ _ 29 rfl B 5 i0 (.int .u8 0) 1 1 Tryd.underlying29 hi hz0 hz1 hz2 rfl (by decide) _ _ _ rfl (hown.alloc _) ⟨w1.heap.size, 0, none⟩ 1 1 [.int .u8 c] rfl rfl ?c1 ?c2 ?c3 ?c4 ?c5 ?_)
  case c1 =>
    intro j u hj
    match j, hj with
    | 0, hj => simp at hj; subst hj; simp [Addr.add]
  case c2 => intro u hu; simp at hu; subst hu; rfl
  case c3 => unfold maxLen; omega
  case c4 => omega
  case c5 => simp; omega
  intro v' w2 hown' hgrow _
  have hlt := lt_of_block hbk
  have hb2 : w2.heap[b]? = some (.cells #[.pointer (some ⟨b, 0, none⟩), v] 31 (0, 0)) := by
    rw [hgrow.block b (by simp; omega) (fun e => hne e.symm), Lib.alloc_old w1 _ b hlt]
    exact hbk
  have d0 : w2.cell? ⟨b, 0, none⟩ = some (.pointer (some ⟨b, 0, none⟩)) := by rw [Lib.cell_of_heap hb2]; rfl
  have d1 : w2.cell? ⟨b, 1, none⟩ = some v := by rw [Lib.cell_of_heap hb2]; rfl
  have f1 : w2.frozen? ⟨b, 1, none⟩ = false := Lib.frozen_of_heap hb2 1
  obtain ⟨g, cap, rfl⟩ : ∃ g cap, v' = .slice (some ⟨g, 0, none⟩) (bs.length + 1) cap := by
    rcases hown'.2 with ⟨_, h0⟩ | ⟨g, cap, cur, fz, hv, _⟩
    · omega
    · exact ⟨g, cap, hv⟩
  go_wp2
  go_ret
  exact ⟨rfl, Lib.BuilderAtF.put (T := 31) (e := 5) hB hb2 (bs' := bs ++ [.int .u8 c]) (by simpa using hown') (by decide),
    ((hb1.alloc (by omega) _).grown hgrow (by simp; omega) (fun k hk => (hown.lt k hk).1)).setCell (p := ⟨b, 1, none⟩) hB _, ((hk1.alloc _).grown hgrow (Lib.ownsRowF_kind (hown.alloc _))).setCell ⟨b, 1, none⟩ rfl _⟩

end Go.Proofs.YtbcmfcddkegcoaaDoor

/-! What writing a text to a Builder does, at this program: WriteString. -/
namespace Go.Proofs.YtbcmfcddkegcoaaDoor
open Go.RowKit Go.Shelf

set_option maxHeartbeats 2000000 in
set_option maxRecDepth 100000 in
/-- WriteString: the bytes behind those that are there; what is no row of bytes and not the Builder stands as it stood. -/
theorem writeString (B b : Nat) (bs : List Value) (s : ByteArray) (w : World) (h : Lib.IsBuilderF 31 5 B b bs w) (hlen : bs.length + s.size ≤ 140737488355328) (hBw : B ≤ w.heap.size) :
    Calls Tryd.prog 11 #[.pointer (some ⟨b, 0, none⟩), .string s] w fun e w' => e = .returned (.tuple #[.int .i64 s.size, .nilIface]) ∧ Lib.BuilderAtF 31 5 B b (.pointer (some ⟨b, 0, none⟩)) (bs ++ Lib.strCells s) w' ∧ Below B w w' ∧ Lib.OthersKept 5 (some b) w w' := by
  obtain ⟨i0, hi, hz0, hz1, hz2⟩ := info_parts infoByte
  go_enter Tryd.func11, Tryd.ntmps11
  go_wp2_with (go_at_call 17; refine (copyCheck B b bs _ h).mono ?_)
  rintro e w1 ⟨rfl, h1, hb1, hk1⟩
  obtain ⟨hB, v, hbk, hown, hne⟩ := h1
  have hs1 := hb1.size
  have c0 : w1.cell? ⟨b, 0, none⟩ = some (.pointer (some ⟨b, 0, none⟩)) := by rw [Lib.cell_of_heap hbk]; rfl
  have c1 : w1.cell? ⟨b, 1, none⟩ = some v := by rw [Lib.cell_of_heap hbk]; rfl
  go_wp2_with (at_builtin; refine Lib.wpList_append_own_stringF _ rfl _ _ 29 9 rfl B 5 i0 Tryd.underlying29 Tryd.underlying9 hi hz0 hz1 hz2 _ _ _ rfl hown s rfl ?c3 ?c4 ?c5 ?_)
  case c3 => unfold maxLen; omega
  case c4 => omega
  case c5 => omega
  intro v' w2 hown' hgrow _
  have hb2 : w2.heap[b]? = some (.cells #[.pointer (some ⟨b, 0, none⟩), v] 31 (0, 0)) := by
    rw [hgrow.block b (lt_of_block hbk) (fun e => hne e.symm)]
    exact hbk
  have d0 : w2.cell? ⟨b, 0, none⟩ = some (.pointer (some ⟨b, 0, none⟩)) := by rw [Lib.cell_of_heap hb2]; rfl
  have d1 : w2.cell? ⟨b, 1, none⟩ = some v := by rw [Lib.cell_of_heap hb2]; rfl
  have f1 : w2.frozen? ⟨b, 1, none⟩ = false := Lib.frozen_of_heap hb2 1
  obtain ⟨ao, n', cap, rfl⟩ : ∃ ao n' cap, v' = .slice ao n' cap := by
    rcases hown'.2 with ⟨hv, _⟩ | ⟨g, cap, cur, fz, hv, _⟩
    · exact ⟨_, _, _, hv⟩
    · exact ⟨_, _, _, hv⟩
  go_wp2
  go_ret2
  exact ⟨rfl, Lib.BuilderAtF.put (T := 31) (e := 5) hB hb2 (bs' := bs ++ Lib.strCells s) (by simpa [Lib.strCells_length] using hown') (by decide),
    (hb1.grown hgrow (by omega) (fun k hk => (hown.lt k hk).1)).setCell (p := ⟨b, 1, none⟩) hB _, (hk1.grown hgrow (Lib.ownsRowF_kind hown)).setCell ⟨b, 1, none⟩ rfl _⟩

end Go.Proofs.YtbcmfcddkegcoaaDoor

/-! What package lines' Norm and Clean answer, for every text. -/
namespace Go.Proofs.YtbcmfcddkegcoaaDoor
open Go.RowKit Go.Lib

theorem norm_one (s : ByteArray) (i : Nat) (h : i < s.size) (acc : List UInt8) (hc : s[i] ≠ 13) (heq : acc ++ normL (s.data.toList.drop i) = normL s.data.toList) :
    (acc ++ [s[i]]) ++ normL (s.data.toList.drop (i + 1)) = normL s.data.toList := by
  rw [← heq, drop_at s i h, normL, if_pos hc, List.append_assoc]; rfl
theorem norm_two (s : ByteArray) (i : Nat) (h : i + 1 < s.size) (acc : List UInt8) (hc : s[i]'(by omega) = 13) (hd : s[i + 1] = 10) (heq : acc ++ normL (s.data.toList.drop i) = normL s.data.toList) :
    acc ++ normL (s.data.toList.drop (i + 1)) = normL s.data.toList := by
  rw [← heq, drop_at s i (by omega), normL, hc, drop_at s (i + 1) h, hd]; rfl
theorem norm_end (s : ByteArray) (i : Nat) (h : i < s.size) (acc : List UInt8) (hc : s[i] = 13) (hd : ∀ h : i + 1 < s.size, s[i + 1] ≠ 10) (heq : acc ++ normL (s.data.toList.drop i) = normL s.data.toList) :
    (acc ++ [10]) ++ normL (s.data.toList.drop (i + 1)) = normL s.data.toList := by
  have hh : (s.data.toList.drop (i + 1)).head? ≠ some 10 := by
    by_cases h1 : i + 1 < s.size
    · rw [drop_at s (i + 1) h1]; simpa using hd h1
    · rw [List.drop_eq_nil_of_le (by rw [← Lib.size_eq]; omega)]; simp
  rw [← heq, drop_at s i h, normL, hc]
  simp only [ne_eq, not_true_eq_false, if_false, if_neg hh, List.append_assoc]; rfl

theorem clean_zero (s : ByteArray) (i : Nat) (h : i < s.size) (acc : List UInt8) (hc : s[i] = 0) (heq : acc ++ cleanL (s.data.toList.drop i) = cleanL s.data.toList) :
    (acc ++ [239, 191, 189]) ++ cleanL (s.data.toList.drop (i + 1)) = cleanL s.data.toList := by
  rw [← heq, drop_at s i h, cleanL, hc, if_pos rfl, List.append_assoc]; rfl
theorem clean_one (s : ByteArray) (i : Nat) (h : i < s.size) (acc : List UInt8) (hc : s[i] ≠ 0) (heq : acc ++ cleanL (s.data.toList.drop i) = cleanL s.data.toList) :
    (acc ++ [s[i]]) ++ cleanL (s.data.toList.drop (i + 1)) = cleanL s.data.toList := by
  rw [← heq, drop_at s i h, cleanL, if_neg hc, List.append_assoc]; rfl
theorem strCells_bad : strCells ⟨#[239, 191, 189]⟩ = byteCells [239, 191, 189] := rfl

set_option maxRecDepth 100000 in
set_option maxHeartbeats 4000000 in
theorem clean_any (s : ByteArray) (w : World) (hs : s.size ≤ 1099511627776) :
    Calls Tryd.prog 5 #[.string s] w fun e w' => e = .returned (.string ⟨(cleanL s.data.toList).toArray⟩) ∧ Below w.heap.size w w' := by
  go_enter Tryd.func5, Tryd.ntmps5
  go_wp2
  refine wp_scope_label 0 (fun a' wr => ∃ (at_ : Nat) (acc : List UInt8) (u1 u5 u6 u7 u8 u9 u10 u11 u12 u13 u14 u15 u16 u17 u18 u19 u20 u21 u22 u23 : Value), a' = { tmps := #[.string s, u1, .string ⟨#[]⟩, .pointer (some ⟨w.heap.size, 0, none⟩), .int .i64 (at_ : Int), u5, u6, u7, u8, u9, u10, u11, u12, u13, u14, u15, u16, u17, u18, u19, u20, u21, u22, u23], defers := [] } ∧ Lib.IsBuilderF 31 5 w.heap.size w.heap.size (Lib.byteCells acc) wr ∧ Below w.heap.size w wr ∧ at_ ≤ s.size ∧ acc ++ cleanL (s.data.toList.drop at_) = cleanL s.data.toList ∧ acc.length ≤ 3 * at_)
    (fun a' _ => s.size - (intOf (a'.tmps.getD 4 undef)).toNat) rfl ?_ ?_
  · rintro a' wr ⟨at_, acc, u1, u5, u6, u7, u8, u9, u10, u11, u12, u13, u14, u15, u16, u17, u18, u19, u20, u21, u22, u23, rfl, hI, hbw, hle, heq, hacc⟩
    have hsz := hbw.size
    by_cases hend : at_ = s.size
    · subst hend
      go_wp2_with (go_at_call 10; refine (Tryd.Builder_String_any_k w.heap.size w.heap.size acc _ hI (by omega)).mono ?_)
      rintro e W1 ⟨rfl, _, b1, _⟩
      go_wp2
      simp only [Exit.jump]
      go_ret
      refine ⟨ret_str ?_, hbw.trans b1⟩
      rw [← heq, List.drop_eq_nil_of_le (by rw [← Lib.size_eq]; omega)]; simp [cleanL]
    · have hlt : at_ < s.size := by omega
      have HE := Lib.hid heq
      clear heq
      by_cases h0 : ((s[at_].toNat : Nat) : Int) = 0
      · go_wp2_with (go_at_call 11; refine (writeString w.heap.size w.heap.size _ _ _ hI (by rw [byteCells_length]; have : (ByteArray.mk #[239, 191, 189]).size = 3 := rfl; omega) hsz).mono ?_)
        rintro e w1 ⟨rfl, h1, b1, -⟩
        go_wp2
        go_step3
        refine ⟨rfl, ⟨at_ + 1, acc ++ [239, 191, 189], _, _, _, _, _, _, _, _, _, _, _, _, _, _, _, _, _, _, _, _, rfl, by rw [byteCells_append, ← strCells_bad]; exact .inr h1, hbw.trans b1, by omega, clean_zero s at_ hlt acc (u8_eq _ 0 (by decide) h0) HE.out, by simp; omega⟩, ?_⟩
        simp [intOf]; omega
      · have h0' : (((s[at_].toNat : Nat) : Int) == 0) = false := by simpa using h0
        go_wp2_with (go_at_call 12; refine (writeByte w.heap.size w.heap.size _ _ _ hI (by rw [byteCells_length]; omega) hsz).mono ?_)
        rintro e w1 ⟨rfl, h1, b1, -⟩
        go_wp2
        go_step3
        refine ⟨rfl, ⟨at_ + 1, acc ++ [s[at_]], _, _, _, _, _, _, _, _, _, _, _, _, _, _, _, _, _, _, _, _, rfl, by rw [byteCells_append]; exact .inr h1, hbw.trans b1, by omega, clean_one s at_ hlt acc (u8_ne _ 0 (by decide) h0) HE.out, by simp; omega⟩, ?_⟩
        simp [intOf]; omega
  · intro hpass
    go_wp2_with (fail)
    refine (Tryd.Builder_Grow_fresh w.heap.size w.heap.size s.size _ (Nat.le_refl _) (heap_alloc_new w _) (by simp) (by omega)).mono ?_
    rintro e w2 ⟨rfl, hB0, hbel0⟩
    have hI0 : Lib.IsBuilderF 31 5 w.heap.size w.heap.size [] w2 := Lib.IsBuilderF.of (.inr hB0)
    go_wp2
    go_step3
    rename_i K hK
    refine hK _ _ (hpass _ _ ?_)
    exact ⟨0, [], _, _, _, _, _, _, _, _, _, _, _, _, _, _, _, _, _, _, _, _, rfl, hI0, ((Below.refl _ w).alloc (Nat.le_refl _) _).trans hbel0, Nat.zero_le _, rfl, Nat.zero_le _⟩

end Go.Proofs.YtbcmfcddkegcoaaDoor

/-! What the document's Norm and Clean of layer 2 answer, for every text; the chapter's examples. -/
namespace Go.Proofs.YtbcmfcddkegcoaaDoor
open Go.RowKit Go.Lib

def prev13 (s : ByteArray) (i : Nat) : Bool := decide (0 < i) && (s.data.toList.getD (i - 1) 0 == 13)
theorem prev13_succ (s : ByteArray) (i : Nat) (h : i < s.size) : prev13 s (i + 1) = (s[i] == 13) := by
  unfold prev13
  rw [show i + 1 - 1 = i by omega, List.getD_eq_getElem?_getD, List.getElem?_eq_getElem (by rw [← Lib.size_eq]; exact h)]
  simp; rfl
theorem normP_13 (s : ByteArray) (i : Nat) (h : i < s.size) (O : ByteArray) (L : List UInt8) (hc : s[i] = 13) (heq : O.data.toList ++ normP (prev13 s i) (s.data.toList.drop i) = L) :
    (O ++ ⟨#[10]⟩).data.toList ++ normP (prev13 s (i + 1)) (s.data.toList.drop (i + 1)) = L := by
  rw [← heq, drop_at s i h, normP, hc, if_pos rfl, prev13_succ s i h, hc]
  simp
theorem normP_skip (s : ByteArray) (i : Nat) (h : i < s.size) (O : ByteArray) (L : List UInt8) (hc : s[i] = 10) (hp : prev13 s i = true) (heq : O.data.toList ++ normP (prev13 s i) (s.data.toList.drop i) = L) :
    O.data.toList ++ normP (prev13 s (i + 1)) (s.data.toList.drop (i + 1)) = L := by
  rw [← heq, drop_at s i h, normP, hc, if_neg (by decide), if_pos ⟨rfl, hp⟩, prev13_succ s i h, hc]
  rfl
theorem normP_one (s : ByteArray) (i : Nat) (h : i < s.size) (O : ByteArray) (L : List UInt8) (hc : s[i] ≠ 13) (hp : s[i] = 10 → prev13 s i = false) (heq : O.data.toList ++ normP (prev13 s i) (s.data.toList.drop i) = L) :
    (O ++ s.extract i (i + 1)).data.toList ++ normP (prev13 s (i + 1)) (s.data.toList.drop (i + 1)) = L := by
  have hb : (s[i] == 13) = false := by simpa using hc
  rw [← heq, drop_at s i h, normP, if_neg hc, prev13_succ s i h, hb]
  by_cases h10 : s[i] = 10
  · rw [if_neg (fun x => by rw [hp h10] at x; simp at x)]
    rw [ByteArray.data_append, Array.toList_append, extract_one s i h, List.append_assoc]; rfl
  · rw [if_neg (fun x => h10 x.1)]
    rw [ByteArray.data_append, Array.toList_append, extract_one s i h, List.append_assoc]; rfl

theorem norm_ex : (⟨(normL (ByteArray.mk #[97, 13, 10, 98, 13, 99]).data.toList).toArray⟩ : ByteArray) = ⟨#[97, 10, 98, 10, 99]⟩ := by
  rw [show normL (ByteArray.mk #[97, 13, 10, 98, 13, 99]).data.toList = [97, 10, 98, 10, 99] by decide +kernel]
theorem norm_ex0 : (⟨(normL (ByteArray.mk #[]).data.toList).toArray⟩ : ByteArray) = ⟨#[]⟩ := rfl
theorem clean_ex : (⟨(cleanL (ByteArray.mk #[97, 0]).data.toList).toArray⟩ : ByteArray) = ⟨#[97, 239, 191, 189]⟩ := by
  rw [show cleanL (ByteArray.mk #[97, 0]).data.toList = [97, 239, 191, 189] by decide +kernel]
end Go.Proofs.YtbcmfcddkegcoaaDoor

/-! What package sign's Lower answers, for every text. -/
namespace Go.Proofs.YtbcmfcddkegcoaaDoor
open Go.RowKit Go.Lib

theorem low_one (s : ByteArray) (i : Nat) (h : i < s.size) (acc : List UInt8) (heq : acc ++ lowL (s.data.toList.drop i) = lowL s.data.toList) :
    (acc ++ [lowB s[i]]) ++ lowL (s.data.toList.drop (i + 1)) = lowL s.data.toList := by
  rw [← heq, drop_at s i h, lowL_cons, List.append_assoc]; rfl
theorem byteCells_one (acc : List UInt8) (c : UInt8) : byteCells (acc ++ [c]) = byteCells acc ++ [.int .u8 (c.toNat : Int)] := by rw [byteCells_append]; rfl

end Go.Proofs.YtbcmfcddkegcoaaDoor
