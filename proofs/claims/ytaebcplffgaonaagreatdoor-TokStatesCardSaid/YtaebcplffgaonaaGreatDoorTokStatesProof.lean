/-
  The law TokStates of flail/flaillaw15 answers true for every input, and changes nothing that was there. Condition, which the card ties to the program's text: when the call begins, the package variables that the row lists hold what that text lays in them (math/bits.deBruijn32tab, math/bits.deBruijn64tab, internal/strconv.uint64pow10, strconv.ErrRange, strconv.ErrSyntax, flail/number.others).
-/
import Derived.Test.YtaebcplffgaonaaGreatDoorRows
import Derived.Test.YtaebcplffgaonaaGreatDoorTkAwake
import Derived.Test.YtaebcplffgaonaaGreatDoorQH
import Derived.Test.YtaebcplffgaonaaGreatDoorCards
import Derived.Test.YtaebcplffgaonaaGreatDoorP6
import Derived.WalkKit
import Derived.ProofKit
import Derived.ChangeOld
import Derived.Below
import Derived.OpenShut
import Derived.ShutString
namespace Go.Proofs.YtaebcplffgaonaaGreatDoor.tokStates
open Go.ChangeShapes Go.WideShapes Go.ChangeAt Go.RowKit
open Go.ChangeMaps (open_string shut_string)
set_option linter.unusedVariables false      -- a walk need not use every 'w<i>' (that an integer argument fits its kind)

theorem own : ownKnob Tryz.prog.godebug = none := by kernel_rfl

theorem opt_at (s : ByteArray) (i : Nat) (h : i < s.size) : s.data.toList[i]? = some s[i] := by
  rw [List.getElem?_eq_getElem (by rw [← Lib.size_eq]; exact h)]; rfl
theorem add_zero' (x : Addr) : x.add 0 = x := by unfold Addr.add; rw [if_pos rfl]
theorem none_of (c : UInt8) (l : Txt) (h : ∀ i, i < l.length → l[i]? ≠ some c) : c ∉ l := fun e => by
  obtain ⟨i, hi⟩ := List.mem_iff_getElem?.1 e
  exact h i (List.getElem?_eq_some_iff.1 hi).1 hi
theorem states_list (a b : ByteArray) : (a ++ ⟨#[60, 47, 115, 99, 114, 105, 112, 116, 62]⟩ ++ b).data.toList = a.data.toList ++ (60 :: 47 :: 115 :: 99 :: 114 :: 105 :: 112 :: 116 :: 62 :: b.data.toList) := by
  simp [ByteArray.data_append]
theorem bare_of {Q : List TkV} {X : Txt} {L : List TokP} (h : Q.map TkV.t = L) (q : TkV) (hq : q ∈ Q) (hL : L = [] ∨ L = [txtT X] := by first | exact .inl rfl | exact .inr rfl) : q.t.attrs = [] := by
  have : q.t ∈ L := by rw [← h]; exact List.mem_map.2 ⟨q, hq, rfl⟩
  rcases hL with rfl | rfl
  · cases this
  · simp only [List.mem_cons, List.not_mem_nil, or_false] at this
    rw [this]; rfl
theorem spread15 {w w3 : World} {base : Nat} {v : Value} {Q : List TkV} {Q1 : List TkV} (h : RowTk w base v Q) (hq : ∀ q ∈ Q1, IsRows w3 q.ad q.len q.cap q.t.attrs ∧ (q.t.attrs = [] ∨ ∀ k, (Value.slice q.ad q.len q.cap).ownBlock = some k → w.heap.size ≤ k)) : ∀ q ∈ Q1, AttOk w3 v q :=
  fun q hm => attOk_row h (hq q hm).1 (hq q hm).2
set_option maxRecDepth 100000 in
set_option maxHeartbeats 8000000 in
theorem walk (a0 : ByteArray) (a1 : ByteArray) (a2 : Int) (w0 : a0.size ≤ maxLen) (w1 : a1.size ≤ maxLen) (w2 : (Lit.int .u8 a2).wf = true) (w : World) (hT : LaidAt w) :
    Calls Tryz.prog 7 #[.string a0, .string a1, .int .u8 a2] w fun e w' => e = .returned (.bool true) ∧ Below w.heap.size w w' := by
  have hb2 : 0 ≤ a2 ∧ a2 ≤ 255 := by simpa [Lit.wf, IntKind.min, IntKind.max, IntKind.signed, IntKind.bits] using w2
  obtain ⟨h20, h21⟩ := hb2
  clear w0 w1 w2
  have HW := Lib.hid hT
  clear hT
  by_cases hlen : 300 < a0.size ∨ 300 < a1.size
  · have hc : decide ((300 : Int) < (a0.size : Int)) = true ∨ decide ((300 : Int) < (a0.size : Int)) = false ∧ decide ((300 : Int) < (a1.size : Int)) = true := by
      simp only [decide_eq_true_eq, decide_eq_false_iff_not]; omega
    clear hlen
    rcases hc with hc | ⟨hc, hd⟩
    all_goals
      go_enter Tryz.func7, Tryz.ntmps7
      go_wp2_with (fail)
      refine (tkAwake_any w HW.out).mono ?_
      rintro e w1 ⟨rfl, c1⟩
      go_wp2
      go_ret
      exact ⟨rfl, c1⟩
  have d0 : decide ((300 : Int) < (a0.size : Int)) = false := decide_eq_false (by omega)
  have d1 : decide ((300 : Int) < (a1.size : Int)) = false := decide_eq_false (by omega)
  have hs0 : a0.size ≤ 300 := by omega
  have hs1 : a1.size ≤ 300 := by omega
  obtain ⟨i0, hi0, hz0, hz1, hz2⟩ := info_parts info_tok
  have hsS : (a0 ++ ⟨#[60, 47, 115, 99, 114, 105, 112, 116, 62]⟩ ++ a1).size ≤ 1048576 := by
    rw [ByteArray.size_append, ByteArray.size_append, show (ByteArray.mk #[60, 47, 115, 99, 114, 105, 112, 116, 62]).size = 9 from rfl]; omega
  have HG := fun (st : Int) (h : -9223372036854775808 ≤ st ∧ st ≤ 9223372036854775807) w h' => Lib.hid (show Calls Tryz.prog 12 #[.string a0, .int .i64 st, .string ⟨#[115, 99, 114, 105, 112, 116]⟩] w (TellS (tokL st scL a0.data.toList) w) from tokTok_any a0 st ⟨#[115, 99, 114, 105, 112, 116]⟩ w (by omega) (by decide) h h')
  have HM := fun (st : Int) (h : -9223372036854775808 ≤ st ∧ st ≤ 9223372036854775807) w h' => Lib.hid (show Calls Tryz.prog 12 #[.string (a0 ++ ⟨#[60, 47, 115, 99, 114, 105, 112, 116, 62]⟩ ++ a1), .int .i64 st, .string ⟨#[115, 99, 114, 105, 112, 116]⟩] w (TellS (tokL st scL (a0.data.toList ++ (60 :: 47 :: 115 :: 99 :: 114 :: 105 :: 112 :: 116 :: 62 :: a1.data.toList))) w) from by
    have := tokTok_any (a0 ++ ⟨#[60, 47, 115, 99, 114, 105, 112, 116, 62]⟩ ++ a1) st ⟨#[115, 99, 114, 105, 112, 116]⟩ w hsS (by decide) h h'
    rwa [states_list] at this)
  have H2 := fun w h => Lib.hid (show Calls Tryz.prog 12 #[.string a1, .int .i64 0, .string ⟨#[]⟩] w (TellS (tokL 0 [] a1.data.toList) w) from tokTok_any a1 0 ⟨#[]⟩ w (by omega) (by decide) (by decide) h)
  have hl2 : (tokL 0 [] a1.data.toList).length ≤ 1000000 := by
    have := tok_len [] a1.data.toList
    rw [← Lib.size_eq] at this; omega
  have HST := Lib.hid (fun (st : Int) (hs : 1 ≤ st ∧ st ≤ 3) (ha : 47 ∉ a0.data.toList) (hb : 45 ∉ a0.data.toList) => And.intro (tok_states st a0.data.toList a1.data.toList hs ha hb) (tok_alone st a0.data.toList hs ha hb))
  generalize tokL 0 [] a1.data.toList = A2 at *
  have hq : a2 % 3 = 0 ∨ a2 % 3 = 1 ∨ a2 % 3 = 2 := by omega
  have HQ := Lib.hid hq
  have p1 : ¬ 9223372036854775807 < a0.size + 9 := by omega
  have p2 : ¬ 9223372036854775807 < a0.size + 9 + a1.size := by omega
  clear hlen hq hsS
  go_enter Tryz.func7, Tryz.ntmps7
  go_wp2_with (fail)
  refine (tkAwake_any w HW.out).mono ?_
  rintro e w1 ⟨rfl, c1⟩
  have B1 := Lib.hid c1
  go_wp2
  clear d0 d1
  go_loopw [8] (fun v wr => ∃ i : Nat, v = .int .i64 (i : Int) ∧ w1 = wr ∧ i ≤ a0.size ∧ Hid (∀ j, j < i → a0.data.toList[j]? ≠ some 47 ∧ a0.data.toList[j]? ≠ some 45)) (fun v _ => a0.size - (intOf v).toNat)
  case atStart => exact ⟨0, rfl, rfl, Nat.zero_le _, Lib.hid fun j h => absurd h (by omega)⟩
  case round =>
    obtain ⟨i, rfl, rfl, hi, HI⟩ := hrel
    by_cases hlt : i < a0.size
    · have HO := Lib.hid (opt_at a0 i hlt)
      by_cases c47 : a0[i] = 47
      · have b47 : (((a0[i].toNat : Nat) : Int) == 47) = true := by rw [c47]; rfl
        clear c47
        go_wp2
        go_ret
        exact ⟨rfl, c1⟩
      have b47 : (((a0[i].toNat : Nat) : Int) == 47) = false := by
        rw [beq_eq_false_iff_ne]; exact fun h => c47 (u8_eq _ 47 (by decide) h)
      by_cases c45 : a0[i] = 45
      · have b45 : (((a0[i].toNat : Nat) : Int) == 45) = true := by rw [c45]; rfl
        clear c47 c45
        go_wp2
        go_ret
        exact ⟨rfl, c1⟩
      have b45 : (((a0[i].toNat : Nat) : Int) == 45) = false := by
        rw [beq_eq_false_iff_ne]; exact fun h => c45 (u8_eq _ 45 (by decide) h)
      have hn : ∀ j, j < i + 1 → a0.data.toList[j]? ≠ some 47 ∧ a0.data.toList[j]? ≠ some 45 := fun j hj => by
        rcases Nat.lt_or_eq_of_le (Nat.le_of_lt_succ hj) with h1 | rfl
        · exact HI.out j h1
        · rw [HO.out]; exact ⟨fun e => c47 (Option.some.inj e), fun e => c45 (Option.some.inj e)⟩
      have HN := Lib.hid hn
      clear hn c47 c45
      go_wp2
      go_roundw
      case rel => exact ⟨i + 1, by go_num, trivial, by omega, HN⟩
      case measure => simp [intOf]; omega
    · have h47 := none_of 47 a0.data.toList (fun j hj => (HI.out j (by rw [← Lib.size_eq] at hj; omega)).1)
      have h45 := none_of 45 a0.data.toList (fun j hj => (HI.out j (by rw [← Lib.size_eq] at hj; omega)).2)
      have s1 := HST.out 1 (by decide) h47 h45
      have G1 := HG 1 (by decide)
      have M1 := HM 1 (by decide)
      rw [s1.1] at M1
      rw [s1.2] at G1 M1
      have s2 := HST.out 2 (by decide) h47 h45
      have G2 := HG 2 (by decide)
      have M2 := HM 2 (by decide)
      rw [s2.1] at M2
      rw [s2.2] at G2 M2
      have s3 := HST.out 3 (by decide) h47 h45
      have G3 := HG 3 (by decide)
      have M3 := HM 3 (by decide)
      rw [s3.1] at M3
      rw [s3.2] at G3 M3
      clear h47 h45 HI HST HG HM s1 s2 s3 c1
      by_cases he : a0.data.toList = []
      · rw [he] at G1 G2 G3 M1 M2 M3
        simp only [raw_nil, emit_nil] at G1 G2 G3 M1 M2 M3
        have X : Txt := []
        clear he
        rcases HQ.out with hq | hq | hq
        · go_wp2_with (fail)
          refine (G1 _ (HW.out.below B1.out)).out.mono ?_
          rintro e w2 ⟨x, l, c, rfl, t2, c2⟩
          have B2 := Lib.hid (B1.out.trans (c2.mono B1.out.size))
          have T2 := Lib.hid t2
          obtain rfl : l = 0 := by rw [← t2.1]; rfl
          clear c2 t2
          go_wp2_with (fail)
          refine (M1 _ (HW.out.below B2.out)).out.mono ?_
          rintro e w3 ⟨z, m, f, rfl, t9, c3⟩
          have B3 := Lib.hid (B2.out.trans (c3.mono B2.out.size))
          have T3 := Lib.hid (T2.out.below c3 (Nat.le_refl _))
          have T9 := Lib.hid t9.toks
          have HW3 := Lib.hid (HW.out.below B3.out)
          have B4 := Lib.hid ((Below.refl w3.heap.size w3).alloc (Nat.le_refl _) (.cells #[] 29))
          have R4 := Lib.hid (rowTk_empty w3 w3.heap.size _ rfl (Nat.le_refl _))
          have hb4 := B4.out.size
          obtain ⟨Q1, hq1, hql, hsrc, hq3⟩ := isToks_src (T3.out.below ((Below.refl _ w3).alloc (Nat.le_refl _) (.cells #[] 29)) (Nat.le_refl _))
          have S4 := Lib.hid hsrc
          have HQ1 := Lib.hid hq1
          have HQL := Lib.hid hql
          have hq1l : Q1.length ≤ 1 := by omega
          have K4 := Lib.hid (show ∀ q ∈ Q1, AttOk (w3.alloc (.cells #[] 29)) (.slice (some ⟨w3.heap.size, 0, none⟩) 0 0) q from fun q hq => ⟨(hq3 q hq).1, .inl (bare_of (X := []) hq1 q hq (.inl rfl))⟩)
          clear t9 c3 hsrc hq1 hq3 T2 T3 hql
          go_wp2_with (at_builtin; refine wpList_append_G _ rfl _ _ 24 24 rfl w3.heap.size 29 i0 _ 5 72 Tryz.underlying24 hi0 hz0 hz1 hz2 rfl _ 0 (cellsT []) rfl R4.out.1 _ 0 (cellsT Q1) rfl S4.out ?c1 ?c2 ?c3 ?_)
          case c1 => first | (simp [maxLen]; done) | (simp [maxLen]; omega) | omega
          case c2 => first | decide | omega | (simp; omega)
          case c3 => first | omega | (simp; omega)
          intro v4 w4 hown1 hgr1 hat1
          have P4 := Lib.hid (rowTk_push (Q := []) (R := Q1) R4.out K4.out B4.out (Nat.le_refl _) (by rw [HQL.out]; first | exact hown1 | simpa using hown1) hgr1 (by simpa using hat1))
          clear hown1 hgr1 hat1
          have R5 := Lib.hid (show RowTk w4 w3.heap.size v4 Q1 from P4.out.1)
          have B5 := Lib.hid P4.out.2
          have hb5 := B5.out.size
          have R6 := Lib.hid (R5.out.below ((Below.refl _ w4).alloc (Nat.le_refl _) (.cells #[.int .i64 2, .string ⟨#[115, 99, 114, 105, 112, 116]⟩, .string ⟨#[]⟩, .slice none 0 0, .bool false] 29)))
          have B6 := Lib.hid (B5.out.alloc hb5 (.cells #[.int .i64 2, .string ⟨#[115, 99, 114, 105, 112, 116]⟩, .string ⟨#[]⟩, .slice none 0 0, .bool false] 29))
          have S6 := Lib.hid (Src.ofSlice (P := Tryz.prog) (size := 5) (w4.alloc (.cells #[.int .i64 2, .string ⟨#[115, 99, 114, 105, 112, 116]⟩, .string ⟨#[]⟩, .slice none 0 0, .bool false] 29)) Tryz.underlying24 ⟨w4.heap.size, 0, none⟩ 1 1 (cellsT [(⟨⟨2, scL, [], [], false⟩, none, 0, 0⟩ : TkV)]) rfl (new_five w4 (⟨⟨2, scL, [], [], false⟩, none, 0, 0⟩ : TkV) 29) (five_one _))
          go_wp2_with (at_builtin; refine wpList_append_G _ rfl _ _ 24 24 rfl w3.heap.size 29 i0 _ 5 72 Tryz.underlying24 hi0 hz0 hz1 hz2 rfl _ Q1.length (cellsT Q1) rfl R6.out.1 _ 1 (cellsT [(⟨⟨2, scL, [], [], false⟩, none, 0, 0⟩ : TkV)]) rfl S6.out ?c1 ?c2 ?c3 ?_)
          case c1 => first | (simp [maxLen]; done) | (simp [maxLen]; omega) | omega
          case c2 => first | decide | omega | (simp; omega)
          case c3 => first | omega | (simp; omega)
          intro v6 w6 hown1 hgr1 hat1
          have P6 := Lib.hid (rowTk_push (R := [(⟨⟨2, scL, [], [], false⟩, none, 0, 0⟩ : TkV)]) R6.out (fun q h => by
            simp only [List.mem_cons, List.not_mem_nil, or_false] at h
            subst h
            exact ⟨⟨rfl, Nat.le_refl _, by simp [maxLen], fun i hi => by cases hi⟩, .inl rfl⟩) B6.out (Nat.le_refl _) (by first | exact hown1 | simpa using hown1) hgr1 (by simpa using hat1))
          clear hown1 hgr1 hat1
          have R7 := Lib.hid P6.out.1
          have B7 := Lib.hid P6.out.2
          go_wp2_with (fail)
          refine (H2 _ (HW3.out.below B7.out)).out.mono ?_
          rintro e w7 ⟨x', l', c', rfl, t7, c7⟩
          obtain ⟨Q3, hq3, hl7, hsrc, hq7⟩ := isToks_src t7
          subst hl7
          have hq3l : Q3.length ≤ 1000000 := by rw [← hq3, List.length_map] at hl2; exact hl2
          have R8 := Lib.hid (R7.out.below c7)
          have S8 := Lib.hid hsrc
          have K8 := Lib.hid (spread15 R7.out hq7)
          have B8 := Lib.hid (B7.out.trans (c7.mono B7.out.size))
          have hb8 := B8.out.size
          have HQ3 := Lib.hid hq3
          clear t7 c7 hsrc hq7 hq3 hl2
          go_wp2_with (at_builtin; refine wpList_append_G _ rfl _ _ 24 24 rfl w3.heap.size 29 i0 _ 5 72 Tryz.underlying24 hi0 hz0 hz1 hz2 rfl _ (Q1 ++ [(⟨⟨2, scL, [], [], false⟩, none, 0, 0⟩ : TkV)]).length (cellsT (Q1 ++ [(⟨⟨2, scL, [], [], false⟩, none, 0, 0⟩ : TkV)])) rfl R8.out.1 _ Q3.length (cellsT Q3) rfl S8.out ?c1 ?c2 ?c3 ?_)
          case c1 => first | (simp [maxLen]; done) | (simp [maxLen]; omega) | omega
          case c2 => first | decide | omega | (simp; omega)
          case c3 => first | omega | (simp; omega)
          intro v8 w8 hown1 hgr1 hat1
          have P8 := Lib.hid (rowTk_push R8.out K8.out B8.out (Nat.le_refl _) (by first | exact hown1 | simpa using hown1) hgr1 (by simpa using hat1))
          clear hown1 hgr1 hat1
          have R9 := Lib.hid P8.out.1
          have B9 := Lib.hid P8.out.2
          obtain ⟨y', d, hv, ty⟩ := R9.out.told
          obtain ⟨N, hN⟩ : ∃ N, (Q1 ++ [(⟨⟨2, scL, [], [], false⟩, none, 0, 0⟩ : TkV)] ++ Q3).length = N := ⟨_, rfl⟩
          rw [hN] at hv ty
          subst hv
          clear hN
          have T9 := Lib.hid (T9.out.below B9.out (Nat.le_refl _))
          have HA := Lib.hid (refAll_any _ _ _ _ _ _ _ _ _ T9.out ty)
          have heq : [] ++ (⟨2, scL, [], [], false⟩ : TokP) :: A2 = (Q1 ++ [(⟨⟨2, scL, [], [], false⟩, none, 0, 0⟩ : TkV)] ++ Q3).map TkV.t := by
            rw [List.map_append, List.map_append, HQ1.out, HQ3.out]; simp
          rw [decide_eq_true heq] at HA
          clear ty heq
          go_wp2_with (fail)
          refine HA.out.mono ?_
          rintro e w10 ⟨rfl, c10⟩
          go_wp2
          go_ret
          exact ⟨ret_bool (by simp), B3.out.trans ((B9.out.trans (c10.mono B9.out.size)).mono B3.out.size)⟩
        · go_wp2_with (fail)
          refine (G2 _ (HW.out.below B1.out)).out.mono ?_
          rintro e w2 ⟨x, l, c, rfl, t2, c2⟩
          have B2 := Lib.hid (B1.out.trans (c2.mono B1.out.size))
          have T2 := Lib.hid t2
          obtain rfl : l = 0 := by rw [← t2.1]; rfl
          clear c2 t2
          go_wp2_with (fail)
          refine (M2 _ (HW.out.below B2.out)).out.mono ?_
          rintro e w3 ⟨z, m, f, rfl, t9, c3⟩
          have B3 := Lib.hid (B2.out.trans (c3.mono B2.out.size))
          have T3 := Lib.hid (T2.out.below c3 (Nat.le_refl _))
          have T9 := Lib.hid t9.toks
          have HW3 := Lib.hid (HW.out.below B3.out)
          have B4 := Lib.hid ((Below.refl w3.heap.size w3).alloc (Nat.le_refl _) (.cells #[] 29))
          have R4 := Lib.hid (rowTk_empty w3 w3.heap.size _ rfl (Nat.le_refl _))
          have hb4 := B4.out.size
          obtain ⟨Q1, hq1, hql, hsrc, hq3⟩ := isToks_src (T3.out.below ((Below.refl _ w3).alloc (Nat.le_refl _) (.cells #[] 29)) (Nat.le_refl _))
          have S4 := Lib.hid hsrc
          have HQ1 := Lib.hid hq1
          have HQL := Lib.hid hql
          have hq1l : Q1.length ≤ 1 := by omega
          have K4 := Lib.hid (show ∀ q ∈ Q1, AttOk (w3.alloc (.cells #[] 29)) (.slice (some ⟨w3.heap.size, 0, none⟩) 0 0) q from fun q hq => ⟨(hq3 q hq).1, .inl (bare_of (X := []) hq1 q hq (.inl rfl))⟩)
          clear t9 c3 hsrc hq1 hq3 T2 T3 hql
          go_wp2_with (at_builtin; refine wpList_append_G _ rfl _ _ 24 24 rfl w3.heap.size 29 i0 _ 5 72 Tryz.underlying24 hi0 hz0 hz1 hz2 rfl _ 0 (cellsT []) rfl R4.out.1 _ 0 (cellsT Q1) rfl S4.out ?c1 ?c2 ?c3 ?_)
          case c1 => first | (simp [maxLen]; done) | (simp [maxLen]; omega) | omega
          case c2 => first | decide | omega | (simp; omega)
          case c3 => first | omega | (simp; omega)
          intro v4 w4 hown1 hgr1 hat1
          have P4 := Lib.hid (rowTk_push (Q := []) (R := Q1) R4.out K4.out B4.out (Nat.le_refl _) (by rw [HQL.out]; first | exact hown1 | simpa using hown1) hgr1 (by simpa using hat1))
          clear hown1 hgr1 hat1
          have R5 := Lib.hid (show RowTk w4 w3.heap.size v4 Q1 from P4.out.1)
          have B5 := Lib.hid P4.out.2
          have hb5 := B5.out.size
          have R6 := Lib.hid (R5.out.below ((Below.refl _ w4).alloc (Nat.le_refl _) (.cells #[.int .i64 2, .string ⟨#[115, 99, 114, 105, 112, 116]⟩, .string ⟨#[]⟩, .slice none 0 0, .bool false] 29)))
          have B6 := Lib.hid (B5.out.alloc hb5 (.cells #[.int .i64 2, .string ⟨#[115, 99, 114, 105, 112, 116]⟩, .string ⟨#[]⟩, .slice none 0 0, .bool false] 29))
          have S6 := Lib.hid (Src.ofSlice (P := Tryz.prog) (size := 5) (w4.alloc (.cells #[.int .i64 2, .string ⟨#[115, 99, 114, 105, 112, 116]⟩, .string ⟨#[]⟩, .slice none 0 0, .bool false] 29)) Tryz.underlying24 ⟨w4.heap.size, 0, none⟩ 1 1 (cellsT [(⟨⟨2, scL, [], [], false⟩, none, 0, 0⟩ : TkV)]) rfl (new_five w4 (⟨⟨2, scL, [], [], false⟩, none, 0, 0⟩ : TkV) 29) (five_one _))
          go_wp2_with (at_builtin; refine wpList_append_G _ rfl _ _ 24 24 rfl w3.heap.size 29 i0 _ 5 72 Tryz.underlying24 hi0 hz0 hz1 hz2 rfl _ Q1.length (cellsT Q1) rfl R6.out.1 _ 1 (cellsT [(⟨⟨2, scL, [], [], false⟩, none, 0, 0⟩ : TkV)]) rfl S6.out ?c1 ?c2 ?c3 ?_)
          case c1 => first | (simp [maxLen]; done) | (simp [maxLen]; omega) | omega
          case c2 => first | decide | omega | (simp; omega)
          case c3 => first | omega | (simp; omega)
          intro v6 w6 hown1 hgr1 hat1
          have P6 := Lib.hid (rowTk_push (R := [(⟨⟨2, scL, [], [], false⟩, none, 0, 0⟩ : TkV)]) R6.out (fun q h => by
            simp only [List.mem_cons, List.not_mem_nil, or_false] at h
            subst h
            exact ⟨⟨rfl, Nat.le_refl _, by simp [maxLen], fun i hi => by cases hi⟩, .inl rfl⟩) B6.out (Nat.le_refl _) (by first | exact hown1 | simpa using hown1) hgr1 (by simpa using hat1))
          clear hown1 hgr1 hat1
          have R7 := Lib.hid P6.out.1
          have B7 := Lib.hid P6.out.2
          go_wp2_with (fail)
          refine (H2 _ (HW3.out.below B7.out)).out.mono ?_
          rintro e w7 ⟨x', l', c', rfl, t7, c7⟩
          obtain ⟨Q3, hq3, hl7, hsrc, hq7⟩ := isToks_src t7
          subst hl7
          have hq3l : Q3.length ≤ 1000000 := by rw [← hq3, List.length_map] at hl2; exact hl2
          have R8 := Lib.hid (R7.out.below c7)
          have S8 := Lib.hid hsrc
          have K8 := Lib.hid (spread15 R7.out hq7)
          have B8 := Lib.hid (B7.out.trans (c7.mono B7.out.size))
          have hb8 := B8.out.size
          have HQ3 := Lib.hid hq3
          clear t7 c7 hsrc hq7 hq3 hl2
          go_wp2_with (at_builtin; refine wpList_append_G _ rfl _ _ 24 24 rfl w3.heap.size 29 i0 _ 5 72 Tryz.underlying24 hi0 hz0 hz1 hz2 rfl _ (Q1 ++ [(⟨⟨2, scL, [], [], false⟩, none, 0, 0⟩ : TkV)]).length (cellsT (Q1 ++ [(⟨⟨2, scL, [], [], false⟩, none, 0, 0⟩ : TkV)])) rfl R8.out.1 _ Q3.length (cellsT Q3) rfl S8.out ?c1 ?c2 ?c3 ?_)
          case c1 => first | (simp [maxLen]; done) | (simp [maxLen]; omega) | omega
          case c2 => first | decide | omega | (simp; omega)
          case c3 => first | omega | (simp; omega)
          intro v8 w8 hown1 hgr1 hat1
          have P8 := Lib.hid (rowTk_push R8.out K8.out B8.out (Nat.le_refl _) (by first | exact hown1 | simpa using hown1) hgr1 (by simpa using hat1))
          clear hown1 hgr1 hat1
          have R9 := Lib.hid P8.out.1
          have B9 := Lib.hid P8.out.2
          obtain ⟨y', d, hv, ty⟩ := R9.out.told
          obtain ⟨N, hN⟩ : ∃ N, (Q1 ++ [(⟨⟨2, scL, [], [], false⟩, none, 0, 0⟩ : TkV)] ++ Q3).length = N := ⟨_, rfl⟩
          rw [hN] at hv ty
          subst hv
          clear hN
          have T9 := Lib.hid (T9.out.below B9.out (Nat.le_refl _))
          have HA := Lib.hid (refAll_any _ _ _ _ _ _ _ _ _ T9.out ty)
          have heq : [] ++ (⟨2, scL, [], [], false⟩ : TokP) :: A2 = (Q1 ++ [(⟨⟨2, scL, [], [], false⟩, none, 0, 0⟩ : TkV)] ++ Q3).map TkV.t := by
            rw [List.map_append, List.map_append, HQ1.out, HQ3.out]; simp
          rw [decide_eq_true heq] at HA
          clear ty heq
          go_wp2_with (fail)
          refine HA.out.mono ?_
          rintro e w10 ⟨rfl, c10⟩
          go_wp2
          go_ret
          exact ⟨ret_bool (by simp), B3.out.trans ((B9.out.trans (c10.mono B9.out.size)).mono B3.out.size)⟩
        · go_wp2_with (fail)
          refine (G3 _ (HW.out.below B1.out)).out.mono ?_
          rintro e w2 ⟨x, l, c, rfl, t2, c2⟩
          have B2 := Lib.hid (B1.out.trans (c2.mono B1.out.size))
          have T2 := Lib.hid t2
          obtain rfl : l = 0 := by rw [← t2.1]; rfl
          clear c2 t2
          go_wp2_with (fail)
          refine (M3 _ (HW.out.below B2.out)).out.mono ?_
          rintro e w3 ⟨z, m, f, rfl, t9, c3⟩
          have B3 := Lib.hid (B2.out.trans (c3.mono B2.out.size))
          have T3 := Lib.hid (T2.out.below c3 (Nat.le_refl _))
          have T9 := Lib.hid t9.toks
          have HW3 := Lib.hid (HW.out.below B3.out)
          have B4 := Lib.hid ((Below.refl w3.heap.size w3).alloc (Nat.le_refl _) (.cells #[] 29))
          have R4 := Lib.hid (rowTk_empty w3 w3.heap.size _ rfl (Nat.le_refl _))
          have hb4 := B4.out.size
          obtain ⟨Q1, hq1, hql, hsrc, hq3⟩ := isToks_src (T3.out.below ((Below.refl _ w3).alloc (Nat.le_refl _) (.cells #[] 29)) (Nat.le_refl _))
          have S4 := Lib.hid hsrc
          have HQ1 := Lib.hid hq1
          have HQL := Lib.hid hql
          have hq1l : Q1.length ≤ 1 := by omega
          have K4 := Lib.hid (show ∀ q ∈ Q1, AttOk (w3.alloc (.cells #[] 29)) (.slice (some ⟨w3.heap.size, 0, none⟩) 0 0) q from fun q hq => ⟨(hq3 q hq).1, .inl (bare_of (X := []) hq1 q hq (.inl rfl))⟩)
          clear t9 c3 hsrc hq1 hq3 T2 T3 hql
          go_wp2_with (at_builtin; refine wpList_append_G _ rfl _ _ 24 24 rfl w3.heap.size 29 i0 _ 5 72 Tryz.underlying24 hi0 hz0 hz1 hz2 rfl _ 0 (cellsT []) rfl R4.out.1 _ 0 (cellsT Q1) rfl S4.out ?c1 ?c2 ?c3 ?_)
          case c1 => first | (simp [maxLen]; done) | (simp [maxLen]; omega) | omega
          case c2 => first | decide | omega | (simp; omega)
          case c3 => first | omega | (simp; omega)
          intro v4 w4 hown1 hgr1 hat1
          have P4 := Lib.hid (rowTk_push (Q := []) (R := Q1) R4.out K4.out B4.out (Nat.le_refl _) (by rw [HQL.out]; first | exact hown1 | simpa using hown1) hgr1 (by simpa using hat1))
          clear hown1 hgr1 hat1
          have R5 := Lib.hid (show RowTk w4 w3.heap.size v4 Q1 from P4.out.1)
          have B5 := Lib.hid P4.out.2
          have hb5 := B5.out.size
          have R6 := Lib.hid (R5.out.below ((Below.refl _ w4).alloc (Nat.le_refl _) (.cells #[.int .i64 2, .string ⟨#[115, 99, 114, 105, 112, 116]⟩, .string ⟨#[]⟩, .slice none 0 0, .bool false] 29)))
          have B6 := Lib.hid (B5.out.alloc hb5 (.cells #[.int .i64 2, .string ⟨#[115, 99, 114, 105, 112, 116]⟩, .string ⟨#[]⟩, .slice none 0 0, .bool false] 29))
          have S6 := Lib.hid (Src.ofSlice (P := Tryz.prog) (size := 5) (w4.alloc (.cells #[.int .i64 2, .string ⟨#[115, 99, 114, 105, 112, 116]⟩, .string ⟨#[]⟩, .slice none 0 0, .bool false] 29)) Tryz.underlying24 ⟨w4.heap.size, 0, none⟩ 1 1 (cellsT [(⟨⟨2, scL, [], [], false⟩, none, 0, 0⟩ : TkV)]) rfl (new_five w4 (⟨⟨2, scL, [], [], false⟩, none, 0, 0⟩ : TkV) 29) (five_one _))
          go_wp2_with (at_builtin; refine wpList_append_G _ rfl _ _ 24 24 rfl w3.heap.size 29 i0 _ 5 72 Tryz.underlying24 hi0 hz0 hz1 hz2 rfl _ Q1.length (cellsT Q1) rfl R6.out.1 _ 1 (cellsT [(⟨⟨2, scL, [], [], false⟩, none, 0, 0⟩ : TkV)]) rfl S6.out ?c1 ?c2 ?c3 ?_)
          case c1 => first | (simp [maxLen]; done) | (simp [maxLen]; omega) | omega
          case c2 => first | decide | omega | (simp; omega)
          case c3 => first | omega | (simp; omega)
          intro v6 w6 hown1 hgr1 hat1
          have P6 := Lib.hid (rowTk_push (R := [(⟨⟨2, scL, [], [], false⟩, none, 0, 0⟩ : TkV)]) R6.out (fun q h => by
            simp only [List.mem_cons, List.not_mem_nil, or_false] at h
            subst h
            exact ⟨⟨rfl, Nat.le_refl _, by simp [maxLen], fun i hi => by cases hi⟩, .inl rfl⟩) B6.out (Nat.le_refl _) (by first | exact hown1 | simpa using hown1) hgr1 (by simpa using hat1))
          clear hown1 hgr1 hat1
          have R7 := Lib.hid P6.out.1
          have B7 := Lib.hid P6.out.2
          go_wp2_with (fail)
          refine (H2 _ (HW3.out.below B7.out)).out.mono ?_
          rintro e w7 ⟨x', l', c', rfl, t7, c7⟩
          obtain ⟨Q3, hq3, hl7, hsrc, hq7⟩ := isToks_src t7
          subst hl7
          have hq3l : Q3.length ≤ 1000000 := by rw [← hq3, List.length_map] at hl2; exact hl2
          have R8 := Lib.hid (R7.out.below c7)
          have S8 := Lib.hid hsrc
          have K8 := Lib.hid (spread15 R7.out hq7)
          have B8 := Lib.hid (B7.out.trans (c7.mono B7.out.size))
          have hb8 := B8.out.size
          have HQ3 := Lib.hid hq3
          clear t7 c7 hsrc hq7 hq3 hl2
          go_wp2_with (at_builtin; refine wpList_append_G _ rfl _ _ 24 24 rfl w3.heap.size 29 i0 _ 5 72 Tryz.underlying24 hi0 hz0 hz1 hz2 rfl _ (Q1 ++ [(⟨⟨2, scL, [], [], false⟩, none, 0, 0⟩ : TkV)]).length (cellsT (Q1 ++ [(⟨⟨2, scL, [], [], false⟩, none, 0, 0⟩ : TkV)])) rfl R8.out.1 _ Q3.length (cellsT Q3) rfl S8.out ?c1 ?c2 ?c3 ?_)
          case c1 => first | (simp [maxLen]; done) | (simp [maxLen]; omega) | omega
          case c2 => first | decide | omega | (simp; omega)
          case c3 => first | omega | (simp; omega)
          intro v8 w8 hown1 hgr1 hat1
          have P8 := Lib.hid (rowTk_push R8.out K8.out B8.out (Nat.le_refl _) (by first | exact hown1 | simpa using hown1) hgr1 (by simpa using hat1))
          clear hown1 hgr1 hat1
          have R9 := Lib.hid P8.out.1
          have B9 := Lib.hid P8.out.2
          obtain ⟨y', d, hv, ty⟩ := R9.out.told
          obtain ⟨N, hN⟩ : ∃ N, (Q1 ++ [(⟨⟨2, scL, [], [], false⟩, none, 0, 0⟩ : TkV)] ++ Q3).length = N := ⟨_, rfl⟩
          rw [hN] at hv ty
          subst hv
          clear hN
          have T9 := Lib.hid (T9.out.below B9.out (Nat.le_refl _))
          have HA := Lib.hid (refAll_any _ _ _ _ _ _ _ _ _ T9.out ty)
          have heq : [] ++ (⟨2, scL, [], [], false⟩ : TokP) :: A2 = (Q1 ++ [(⟨⟨2, scL, [], [], false⟩, none, 0, 0⟩ : TkV)] ++ Q3).map TkV.t := by
            rw [List.map_append, List.map_append, HQ1.out, HQ3.out]; simp
          rw [decide_eq_true heq] at HA
          clear ty heq
          go_wp2_with (fail)
          refine HA.out.mono ?_
          rintro e w10 ⟨rfl, c10⟩
          go_wp2
          go_ret
          exact ⟨ret_bool (by simp), B3.out.trans ((B9.out.trans (c10.mono B9.out.size)).mono B3.out.size)⟩
      · have n1 := raw_some true _ he
        have n2 := raw_some false _ he
        clear he
        rcases HQ.out with hq | hq | hq
        · rw [show decide ((1 : Int) = 1) = true from rfl] at G1 M1
          obtain ⟨X, hX⟩ : ∃ X, rawT true a0.data.toList = X := ⟨_, rfl⟩
          rw [hX] at G1 M1 n1
          rw [emit_one X n1] at G1 M1
          clear n1 n2 hX
          go_wp2_with (fail)
          refine (G1 _ (HW.out.below B1.out)).out.mono ?_
          rintro e w2 ⟨x, l, c, rfl, t2, c2⟩
          have B2 := Lib.hid (B1.out.trans (c2.mono B1.out.size))
          have T2 := Lib.hid t2
          obtain rfl : l = 1 := by rw [← t2.1]; rfl
          clear c2 t2
          go_wp2_with (fail)
          refine (M1 _ (HW.out.below B2.out)).out.mono ?_
          rintro e w3 ⟨z, m, f, rfl, t9, c3⟩
          have B3 := Lib.hid (B2.out.trans (c3.mono B2.out.size))
          have T3 := Lib.hid (T2.out.below c3 (Nat.le_refl _))
          have T9 := Lib.hid t9.toks
          have HW3 := Lib.hid (HW.out.below B3.out)
          have B4 := Lib.hid ((Below.refl w3.heap.size w3).alloc (Nat.le_refl _) (.cells #[] 29))
          have R4 := Lib.hid (rowTk_empty w3 w3.heap.size _ rfl (Nat.le_refl _))
          have hb4 := B4.out.size
          obtain ⟨Q1, hq1, hql, hsrc, hq3⟩ := isToks_src (T3.out.below ((Below.refl _ w3).alloc (Nat.le_refl _) (.cells #[] 29)) (Nat.le_refl _))
          have S4 := Lib.hid hsrc
          have HQ1 := Lib.hid hq1
          have HQL := Lib.hid hql
          have hq1l : Q1.length ≤ 1 := by omega
          have K4 := Lib.hid (show ∀ q ∈ Q1, AttOk (w3.alloc (.cells #[] 29)) (.slice (some ⟨w3.heap.size, 0, none⟩) 0 0) q from fun q hq => ⟨(hq3 q hq).1, .inl (bare_of (X := X) hq1 q hq (.inr rfl))⟩)
          obtain ⟨y, ad, ln, cp, rfl, yc, -, -⟩ := T3.out.2.2.2 0 (by simp)
          have y0 := yc.asked.1
          simp only [Nat.zero_mul, add_zero', List.getElem_cons_zero, txtT] at y0
          have hcap := T3.out.2.1
          clear yc
          clear t9 c3 hsrc hq1 hq3 T2 T3 hql
          go_wp2_with (at_builtin; refine wpList_append_G _ rfl _ _ 24 24 rfl w3.heap.size 29 i0 _ 5 72 Tryz.underlying24 hi0 hz0 hz1 hz2 rfl _ 0 (cellsT []) rfl R4.out.1 _ 1 (cellsT Q1) rfl S4.out ?c1 ?c2 ?c3 ?_)
          case c1 => first | (simp [maxLen]; done) | (simp [maxLen]; omega) | omega
          case c2 => first | decide | omega | (simp; omega)
          case c3 => first | omega | (simp; omega)
          intro v4 w4 hown1 hgr1 hat1
          have P4 := Lib.hid (rowTk_push (Q := []) (R := Q1) R4.out K4.out B4.out (Nat.le_refl _) (by rw [HQL.out]; first | exact hown1 | simpa using hown1) hgr1 (by simpa using hat1))
          clear hown1 hgr1 hat1
          have R5 := Lib.hid (show RowTk w4 w3.heap.size v4 Q1 from P4.out.1)
          have B5 := Lib.hid P4.out.2
          have hb5 := B5.out.size
          have R6 := Lib.hid (R5.out.below ((Below.refl _ w4).alloc (Nat.le_refl _) (.cells #[.int .i64 2, .string ⟨#[115, 99, 114, 105, 112, 116]⟩, .string ⟨#[]⟩, .slice none 0 0, .bool false] 29)))
          have B6 := Lib.hid (B5.out.alloc hb5 (.cells #[.int .i64 2, .string ⟨#[115, 99, 114, 105, 112, 116]⟩, .string ⟨#[]⟩, .slice none 0 0, .bool false] 29))
          have S6 := Lib.hid (Src.ofSlice (P := Tryz.prog) (size := 5) (w4.alloc (.cells #[.int .i64 2, .string ⟨#[115, 99, 114, 105, 112, 116]⟩, .string ⟨#[]⟩, .slice none 0 0, .bool false] 29)) Tryz.underlying24 ⟨w4.heap.size, 0, none⟩ 1 1 (cellsT [(⟨⟨2, scL, [], [], false⟩, none, 0, 0⟩ : TkV)]) rfl (new_five w4 (⟨⟨2, scL, [], [], false⟩, none, 0, 0⟩ : TkV) 29) (five_one _))
          go_wp2_with (at_builtin; refine wpList_append_G _ rfl _ _ 24 24 rfl w3.heap.size 29 i0 _ 5 72 Tryz.underlying24 hi0 hz0 hz1 hz2 rfl _ Q1.length (cellsT Q1) rfl R6.out.1 _ 1 (cellsT [(⟨⟨2, scL, [], [], false⟩, none, 0, 0⟩ : TkV)]) rfl S6.out ?c1 ?c2 ?c3 ?_)
          case c1 => first | (simp [maxLen]; done) | (simp [maxLen]; omega) | omega
          case c2 => first | decide | omega | (simp; omega)
          case c3 => first | omega | (simp; omega)
          intro v6 w6 hown1 hgr1 hat1
          have P6 := Lib.hid (rowTk_push (R := [(⟨⟨2, scL, [], [], false⟩, none, 0, 0⟩ : TkV)]) R6.out (fun q h => by
            simp only [List.mem_cons, List.not_mem_nil, or_false] at h
            subst h
            exact ⟨⟨rfl, Nat.le_refl _, by simp [maxLen], fun i hi => by cases hi⟩, .inl rfl⟩) B6.out (Nat.le_refl _) (by first | exact hown1 | simpa using hown1) hgr1 (by simpa using hat1))
          clear hown1 hgr1 hat1
          have R7 := Lib.hid P6.out.1
          have B7 := Lib.hid P6.out.2
          go_wp2_with (fail)
          refine (H2 _ (HW3.out.below B7.out)).out.mono ?_
          rintro e w7 ⟨x', l', c', rfl, t7, c7⟩
          obtain ⟨Q3, hq3, hl7, hsrc, hq7⟩ := isToks_src t7
          subst hl7
          have hq3l : Q3.length ≤ 1000000 := by rw [← hq3, List.length_map] at hl2; exact hl2
          have R8 := Lib.hid (R7.out.below c7)
          have S8 := Lib.hid hsrc
          have K8 := Lib.hid (spread15 R7.out hq7)
          have B8 := Lib.hid (B7.out.trans (c7.mono B7.out.size))
          have hb8 := B8.out.size
          have HQ3 := Lib.hid hq3
          clear t7 c7 hsrc hq7 hq3 hl2
          go_wp2_with (at_builtin; refine wpList_append_G _ rfl _ _ 24 24 rfl w3.heap.size 29 i0 _ 5 72 Tryz.underlying24 hi0 hz0 hz1 hz2 rfl _ (Q1 ++ [(⟨⟨2, scL, [], [], false⟩, none, 0, 0⟩ : TkV)]).length (cellsT (Q1 ++ [(⟨⟨2, scL, [], [], false⟩, none, 0, 0⟩ : TkV)])) rfl R8.out.1 _ Q3.length (cellsT Q3) rfl S8.out ?c1 ?c2 ?c3 ?_)
          case c1 => first | (simp [maxLen]; done) | (simp [maxLen]; omega) | omega
          case c2 => first | decide | omega | (simp; omega)
          case c3 => first | omega | (simp; omega)
          intro v8 w8 hown1 hgr1 hat1
          have P8 := Lib.hid (rowTk_push R8.out K8.out B8.out (Nat.le_refl _) (by first | exact hown1 | simpa using hown1) hgr1 (by simpa using hat1))
          clear hown1 hgr1 hat1
          have R9 := Lib.hid P8.out.1
          have B9 := Lib.hid P8.out.2
          obtain ⟨y', d, hv, ty⟩ := R9.out.told
          obtain ⟨N, hN⟩ : ∃ N, (Q1 ++ [(⟨⟨2, scL, [], [], false⟩, none, 0, 0⟩ : TkV)] ++ Q3).length = N := ⟨_, rfl⟩
          rw [hN] at hv ty
          subst hv
          clear hN
          have T9 := Lib.hid (T9.out.below B9.out (Nat.le_refl _))
          have HA := Lib.hid (refAll_any _ _ _ _ _ _ _ _ _ T9.out ty)
          have heq : [txtT X] ++ (⟨2, scL, [], [], false⟩ : TokP) :: A2 = (Q1 ++ [(⟨⟨2, scL, [], [], false⟩, none, 0, 0⟩ : TkV)] ++ Q3).map TkV.t := by
            rw [List.map_append, List.map_append, HQ1.out, HQ3.out]; simp
          rw [decide_eq_true heq] at HA
          clear ty heq
          go_wp2_with (fail)
          refine HA.out.mono ?_
          rintro e w10 ⟨rfl, c10⟩
          go_wp2
          go_ret
          exact ⟨ret_bool (by simp), B3.out.trans ((B9.out.trans (c10.mono B9.out.size)).mono B3.out.size)⟩
        · rw [show decide ((2 : Int) = 1) = false from rfl] at G2 M2
          obtain ⟨X, hX⟩ : ∃ X, rawT false a0.data.toList = X := ⟨_, rfl⟩
          rw [hX] at G2 M2 n2
          rw [emit_one X n2] at G2 M2
          clear n1 n2 hX
          go_wp2_with (fail)
          refine (G2 _ (HW.out.below B1.out)).out.mono ?_
          rintro e w2 ⟨x, l, c, rfl, t2, c2⟩
          have B2 := Lib.hid (B1.out.trans (c2.mono B1.out.size))
          have T2 := Lib.hid t2
          obtain rfl : l = 1 := by rw [← t2.1]; rfl
          clear c2 t2
          go_wp2_with (fail)
          refine (M2 _ (HW.out.below B2.out)).out.mono ?_
          rintro e w3 ⟨z, m, f, rfl, t9, c3⟩
          have B3 := Lib.hid (B2.out.trans (c3.mono B2.out.size))
          have T3 := Lib.hid (T2.out.below c3 (Nat.le_refl _))
          have T9 := Lib.hid t9.toks
          have HW3 := Lib.hid (HW.out.below B3.out)
          have B4 := Lib.hid ((Below.refl w3.heap.size w3).alloc (Nat.le_refl _) (.cells #[] 29))
          have R4 := Lib.hid (rowTk_empty w3 w3.heap.size _ rfl (Nat.le_refl _))
          have hb4 := B4.out.size
          obtain ⟨Q1, hq1, hql, hsrc, hq3⟩ := isToks_src (T3.out.below ((Below.refl _ w3).alloc (Nat.le_refl _) (.cells #[] 29)) (Nat.le_refl _))
          have S4 := Lib.hid hsrc
          have HQ1 := Lib.hid hq1
          have HQL := Lib.hid hql
          have hq1l : Q1.length ≤ 1 := by omega
          have K4 := Lib.hid (show ∀ q ∈ Q1, AttOk (w3.alloc (.cells #[] 29)) (.slice (some ⟨w3.heap.size, 0, none⟩) 0 0) q from fun q hq => ⟨(hq3 q hq).1, .inl (bare_of (X := X) hq1 q hq (.inr rfl))⟩)
          obtain ⟨y, ad, ln, cp, rfl, yc, -, -⟩ := T3.out.2.2.2 0 (by simp)
          have y0 := yc.asked.1
          simp only [Nat.zero_mul, add_zero', List.getElem_cons_zero, txtT] at y0
          have hcap := T3.out.2.1
          clear yc
          clear t9 c3 hsrc hq1 hq3 T2 T3 hql
          go_wp2_with (at_builtin; refine wpList_append_G _ rfl _ _ 24 24 rfl w3.heap.size 29 i0 _ 5 72 Tryz.underlying24 hi0 hz0 hz1 hz2 rfl _ 0 (cellsT []) rfl R4.out.1 _ 1 (cellsT Q1) rfl S4.out ?c1 ?c2 ?c3 ?_)
          case c1 => first | (simp [maxLen]; done) | (simp [maxLen]; omega) | omega
          case c2 => first | decide | omega | (simp; omega)
          case c3 => first | omega | (simp; omega)
          intro v4 w4 hown1 hgr1 hat1
          have P4 := Lib.hid (rowTk_push (Q := []) (R := Q1) R4.out K4.out B4.out (Nat.le_refl _) (by rw [HQL.out]; first | exact hown1 | simpa using hown1) hgr1 (by simpa using hat1))
          clear hown1 hgr1 hat1
          have R5 := Lib.hid (show RowTk w4 w3.heap.size v4 Q1 from P4.out.1)
          have B5 := Lib.hid P4.out.2
          have hb5 := B5.out.size
          have R6 := Lib.hid (R5.out.below ((Below.refl _ w4).alloc (Nat.le_refl _) (.cells #[.int .i64 2, .string ⟨#[115, 99, 114, 105, 112, 116]⟩, .string ⟨#[]⟩, .slice none 0 0, .bool false] 29)))
          have B6 := Lib.hid (B5.out.alloc hb5 (.cells #[.int .i64 2, .string ⟨#[115, 99, 114, 105, 112, 116]⟩, .string ⟨#[]⟩, .slice none 0 0, .bool false] 29))
          have S6 := Lib.hid (Src.ofSlice (P := Tryz.prog) (size := 5) (w4.alloc (.cells #[.int .i64 2, .string ⟨#[115, 99, 114, 105, 112, 116]⟩, .string ⟨#[]⟩, .slice none 0 0, .bool false] 29)) Tryz.underlying24 ⟨w4.heap.size, 0, none⟩ 1 1 (cellsT [(⟨⟨2, scL, [], [], false⟩, none, 0, 0⟩ : TkV)]) rfl (new_five w4 (⟨⟨2, scL, [], [], false⟩, none, 0, 0⟩ : TkV) 29) (five_one _))
          go_wp2_with (at_builtin; refine wpList_append_G _ rfl _ _ 24 24 rfl w3.heap.size 29 i0 _ 5 72 Tryz.underlying24 hi0 hz0 hz1 hz2 rfl _ Q1.length (cellsT Q1) rfl R6.out.1 _ 1 (cellsT [(⟨⟨2, scL, [], [], false⟩, none, 0, 0⟩ : TkV)]) rfl S6.out ?c1 ?c2 ?c3 ?_)
          case c1 => first | (simp [maxLen]; done) | (simp [maxLen]; omega) | omega
          case c2 => first | decide | omega | (simp; omega)
          case c3 => first | omega | (simp; omega)
          intro v6 w6 hown1 hgr1 hat1
          have P6 := Lib.hid (rowTk_push (R := [(⟨⟨2, scL, [], [], false⟩, none, 0, 0⟩ : TkV)]) R6.out (fun q h => by
            simp only [List.mem_cons, List.not_mem_nil, or_false] at h
            subst h
            exact ⟨⟨rfl, Nat.le_refl _, by simp [maxLen], fun i hi => by cases hi⟩, .inl rfl⟩) B6.out (Nat.le_refl _) (by first | exact hown1 | simpa using hown1) hgr1 (by simpa using hat1))
          clear hown1 hgr1 hat1
          have R7 := Lib.hid P6.out.1
          have B7 := Lib.hid P6.out.2
          go_wp2_with (fail)
          refine (H2 _ (HW3.out.below B7.out)).out.mono ?_
          rintro e w7 ⟨x', l', c', rfl, t7, c7⟩
          obtain ⟨Q3, hq3, hl7, hsrc, hq7⟩ := isToks_src t7
          subst hl7
          have hq3l : Q3.length ≤ 1000000 := by rw [← hq3, List.length_map] at hl2; exact hl2
          have R8 := Lib.hid (R7.out.below c7)
          have S8 := Lib.hid hsrc
          have K8 := Lib.hid (spread15 R7.out hq7)
          have B8 := Lib.hid (B7.out.trans (c7.mono B7.out.size))
          have hb8 := B8.out.size
          have HQ3 := Lib.hid hq3
          clear t7 c7 hsrc hq7 hq3 hl2
          go_wp2_with (at_builtin; refine wpList_append_G _ rfl _ _ 24 24 rfl w3.heap.size 29 i0 _ 5 72 Tryz.underlying24 hi0 hz0 hz1 hz2 rfl _ (Q1 ++ [(⟨⟨2, scL, [], [], false⟩, none, 0, 0⟩ : TkV)]).length (cellsT (Q1 ++ [(⟨⟨2, scL, [], [], false⟩, none, 0, 0⟩ : TkV)])) rfl R8.out.1 _ Q3.length (cellsT Q3) rfl S8.out ?c1 ?c2 ?c3 ?_)
          case c1 => first | (simp [maxLen]; done) | (simp [maxLen]; omega) | omega
          case c2 => first | decide | omega | (simp; omega)
          case c3 => first | omega | (simp; omega)
          intro v8 w8 hown1 hgr1 hat1
          have P8 := Lib.hid (rowTk_push R8.out K8.out B8.out (Nat.le_refl _) (by first | exact hown1 | simpa using hown1) hgr1 (by simpa using hat1))
          clear hown1 hgr1 hat1
          have R9 := Lib.hid P8.out.1
          have B9 := Lib.hid P8.out.2
          obtain ⟨y', d, hv, ty⟩ := R9.out.told
          obtain ⟨N, hN⟩ : ∃ N, (Q1 ++ [(⟨⟨2, scL, [], [], false⟩, none, 0, 0⟩ : TkV)] ++ Q3).length = N := ⟨_, rfl⟩
          rw [hN] at hv ty
          subst hv
          clear hN
          have T9 := Lib.hid (T9.out.below B9.out (Nat.le_refl _))
          have HA := Lib.hid (refAll_any _ _ _ _ _ _ _ _ _ T9.out ty)
          have heq : [txtT X] ++ (⟨2, scL, [], [], false⟩ : TokP) :: A2 = (Q1 ++ [(⟨⟨2, scL, [], [], false⟩, none, 0, 0⟩ : TkV)] ++ Q3).map TkV.t := by
            rw [List.map_append, List.map_append, HQ1.out, HQ3.out]; simp
          rw [decide_eq_true heq] at HA
          clear ty heq
          go_wp2_with (fail)
          refine HA.out.mono ?_
          rintro e w10 ⟨rfl, c10⟩
          go_wp2
          go_ret
          exact ⟨ret_bool (by simp), B3.out.trans ((B9.out.trans (c10.mono B9.out.size)).mono B3.out.size)⟩
        · rw [show decide ((3 : Int) = 1) = false from rfl] at G3 M3
          obtain ⟨X, hX⟩ : ∃ X, rawT false a0.data.toList = X := ⟨_, rfl⟩
          rw [hX] at G3 M3 n2
          rw [emit_one X n2] at G3 M3
          clear n1 n2 hX
          go_wp2_with (fail)
          refine (G3 _ (HW.out.below B1.out)).out.mono ?_
          rintro e w2 ⟨x, l, c, rfl, t2, c2⟩
          have B2 := Lib.hid (B1.out.trans (c2.mono B1.out.size))
          have T2 := Lib.hid t2
          obtain rfl : l = 1 := by rw [← t2.1]; rfl
          clear c2 t2
          go_wp2_with (fail)
          refine (M3 _ (HW.out.below B2.out)).out.mono ?_
          rintro e w3 ⟨z, m, f, rfl, t9, c3⟩
          have B3 := Lib.hid (B2.out.trans (c3.mono B2.out.size))
          have T3 := Lib.hid (T2.out.below c3 (Nat.le_refl _))
          have T9 := Lib.hid t9.toks
          have HW3 := Lib.hid (HW.out.below B3.out)
          have B4 := Lib.hid ((Below.refl w3.heap.size w3).alloc (Nat.le_refl _) (.cells #[] 29))
          have R4 := Lib.hid (rowTk_empty w3 w3.heap.size _ rfl (Nat.le_refl _))
          have hb4 := B4.out.size
          obtain ⟨Q1, hq1, hql, hsrc, hq3⟩ := isToks_src (T3.out.below ((Below.refl _ w3).alloc (Nat.le_refl _) (.cells #[] 29)) (Nat.le_refl _))
          have S4 := Lib.hid hsrc
          have HQ1 := Lib.hid hq1
          have HQL := Lib.hid hql
          have hq1l : Q1.length ≤ 1 := by omega
          have K4 := Lib.hid (show ∀ q ∈ Q1, AttOk (w3.alloc (.cells #[] 29)) (.slice (some ⟨w3.heap.size, 0, none⟩) 0 0) q from fun q hq => ⟨(hq3 q hq).1, .inl (bare_of (X := X) hq1 q hq (.inr rfl))⟩)
          obtain ⟨y, ad, ln, cp, rfl, yc, -, -⟩ := T3.out.2.2.2 0 (by simp)
          have y0 := yc.asked.1
          simp only [Nat.zero_mul, add_zero', List.getElem_cons_zero, txtT] at y0
          have hcap := T3.out.2.1
          clear yc
          clear t9 c3 hsrc hq1 hq3 T2 T3 hql
          go_wp2_with (at_builtin; refine wpList_append_G _ rfl _ _ 24 24 rfl w3.heap.size 29 i0 _ 5 72 Tryz.underlying24 hi0 hz0 hz1 hz2 rfl _ 0 (cellsT []) rfl R4.out.1 _ 1 (cellsT Q1) rfl S4.out ?c1 ?c2 ?c3 ?_)
          case c1 => first | (simp [maxLen]; done) | (simp [maxLen]; omega) | omega
          case c2 => first | decide | omega | (simp; omega)
          case c3 => first | omega | (simp; omega)
          intro v4 w4 hown1 hgr1 hat1
          have P4 := Lib.hid (rowTk_push (Q := []) (R := Q1) R4.out K4.out B4.out (Nat.le_refl _) (by rw [HQL.out]; first | exact hown1 | simpa using hown1) hgr1 (by simpa using hat1))
          clear hown1 hgr1 hat1
          have R5 := Lib.hid (show RowTk w4 w3.heap.size v4 Q1 from P4.out.1)
          have B5 := Lib.hid P4.out.2
          have hb5 := B5.out.size
          have R6 := Lib.hid (R5.out.below ((Below.refl _ w4).alloc (Nat.le_refl _) (.cells #[.int .i64 2, .string ⟨#[115, 99, 114, 105, 112, 116]⟩, .string ⟨#[]⟩, .slice none 0 0, .bool false] 29)))
          have B6 := Lib.hid (B5.out.alloc hb5 (.cells #[.int .i64 2, .string ⟨#[115, 99, 114, 105, 112, 116]⟩, .string ⟨#[]⟩, .slice none 0 0, .bool false] 29))
          have S6 := Lib.hid (Src.ofSlice (P := Tryz.prog) (size := 5) (w4.alloc (.cells #[.int .i64 2, .string ⟨#[115, 99, 114, 105, 112, 116]⟩, .string ⟨#[]⟩, .slice none 0 0, .bool false] 29)) Tryz.underlying24 ⟨w4.heap.size, 0, none⟩ 1 1 (cellsT [(⟨⟨2, scL, [], [], false⟩, none, 0, 0⟩ : TkV)]) rfl (new_five w4 (⟨⟨2, scL, [], [], false⟩, none, 0, 0⟩ : TkV) 29) (five_one _))
          go_wp2_with (at_builtin; refine wpList_append_G _ rfl _ _ 24 24 rfl w3.heap.size 29 i0 _ 5 72 Tryz.underlying24 hi0 hz0 hz1 hz2 rfl _ Q1.length (cellsT Q1) rfl R6.out.1 _ 1 (cellsT [(⟨⟨2, scL, [], [], false⟩, none, 0, 0⟩ : TkV)]) rfl S6.out ?c1 ?c2 ?c3 ?_)
          case c1 => first | (simp [maxLen]; done) | (simp [maxLen]; omega) | omega
          case c2 => first | decide | omega | (simp; omega)
          case c3 => first | omega | (simp; omega)
          intro v6 w6 hown1 hgr1 hat1
          have P6 := Lib.hid (rowTk_push (R := [(⟨⟨2, scL, [], [], false⟩, none, 0, 0⟩ : TkV)]) R6.out (fun q h => by
            simp only [List.mem_cons, List.not_mem_nil, or_false] at h
            subst h
            exact ⟨⟨rfl, Nat.le_refl _, by simp [maxLen], fun i hi => by cases hi⟩, .inl rfl⟩) B6.out (Nat.le_refl _) (by first | exact hown1 | simpa using hown1) hgr1 (by simpa using hat1))
          clear hown1 hgr1 hat1
          have R7 := Lib.hid P6.out.1
          have B7 := Lib.hid P6.out.2
          go_wp2_with (fail)
          refine (H2 _ (HW3.out.below B7.out)).out.mono ?_
          rintro e w7 ⟨x', l', c', rfl, t7, c7⟩
          obtain ⟨Q3, hq3, hl7, hsrc, hq7⟩ := isToks_src t7
          subst hl7
          have hq3l : Q3.length ≤ 1000000 := by rw [← hq3, List.length_map] at hl2; exact hl2
          have R8 := Lib.hid (R7.out.below c7)
          have S8 := Lib.hid hsrc
          have K8 := Lib.hid (spread15 R7.out hq7)
          have B8 := Lib.hid (B7.out.trans (c7.mono B7.out.size))
          have hb8 := B8.out.size
          have HQ3 := Lib.hid hq3
          clear t7 c7 hsrc hq7 hq3 hl2
          go_wp2_with (at_builtin; refine wpList_append_G _ rfl _ _ 24 24 rfl w3.heap.size 29 i0 _ 5 72 Tryz.underlying24 hi0 hz0 hz1 hz2 rfl _ (Q1 ++ [(⟨⟨2, scL, [], [], false⟩, none, 0, 0⟩ : TkV)]).length (cellsT (Q1 ++ [(⟨⟨2, scL, [], [], false⟩, none, 0, 0⟩ : TkV)])) rfl R8.out.1 _ Q3.length (cellsT Q3) rfl S8.out ?c1 ?c2 ?c3 ?_)
          case c1 => first | (simp [maxLen]; done) | (simp [maxLen]; omega) | omega
          case c2 => first | decide | omega | (simp; omega)
          case c3 => first | omega | (simp; omega)
          intro v8 w8 hown1 hgr1 hat1
          have P8 := Lib.hid (rowTk_push R8.out K8.out B8.out (Nat.le_refl _) (by first | exact hown1 | simpa using hown1) hgr1 (by simpa using hat1))
          clear hown1 hgr1 hat1
          have R9 := Lib.hid P8.out.1
          have B9 := Lib.hid P8.out.2
          obtain ⟨y', d, hv, ty⟩ := R9.out.told
          obtain ⟨N, hN⟩ : ∃ N, (Q1 ++ [(⟨⟨2, scL, [], [], false⟩, none, 0, 0⟩ : TkV)] ++ Q3).length = N := ⟨_, rfl⟩
          rw [hN] at hv ty
          subst hv
          clear hN
          have T9 := Lib.hid (T9.out.below B9.out (Nat.le_refl _))
          have HA := Lib.hid (refAll_any _ _ _ _ _ _ _ _ _ T9.out ty)
          have heq : [txtT X] ++ (⟨2, scL, [], [], false⟩ : TokP) :: A2 = (Q1 ++ [(⟨⟨2, scL, [], [], false⟩, none, 0, 0⟩ : TkV)] ++ Q3).map TkV.t := by
            rw [List.map_append, List.map_append, HQ1.out, HQ3.out]; simp
          rw [decide_eq_true heq] at HA
          clear ty heq
          go_wp2_with (fail)
          refine HA.out.mono ?_
          rintro e w10 ⟨rfl, c10⟩
          go_wp2
          go_ret
          exact ⟨ret_bool (by simp), B3.out.trans ((B9.out.trans (c10.mono B9.out.size)).mono B3.out.size)⟩
  -- go_wp2
  -- go_ret
  -- exact ⟨rfl, by repeat (first | exact Grown.refl _ | apply Grown.drew | apply Grown.alloc)⟩

theorem laid_met (os : Os) : laidMet Tryz.prog Rows.tokStatesRow.laid ((laidWorld os).forCall (fun _ _ => 0) ⟨#[], #[.string ByteArray.empty, .string ByteArray.empty, .int .u8 0], []⟩).memory :=
  laidMet_of_run' 8 (by kernel_rfl) (by kernel_rfl)
theorem reads (os : Os) {H : Type} (enc : TypeId × Value → H) : ∃ places, DataW.whole enc Tryz.prog ((laidWorld os).forCall (fun _ _ => 0) ⟨#[], #[.string ByteArray.empty, .string ByteArray.empty, .int .u8 0], []⟩).memory Tryz.f7.params.toList Rows.tokStatesSpec.vars false (#[.string ByteArray.empty, .string ByteArray.empty, .int .u8 0] : Array Value).toList 8 = some ([.lit (.string []), .lit (.string []), .lit (.int .u8 0)], [], places) :=
  ⟨[], by kernel_rfl⟩
set_option maxRecDepth 100000 in
theorem lifted (os : Os) (started : os.Started) (H : Type) (enc : TypeId × Value → H) (F : Stop.Interp) :
    ReturnsInHanded {} Tryz.checked os 7 .any ((OpenSpec.ofChange Rows.tokStatesSpec).preRow enc Tryz.prog Tryz.f7 Rows.tokStatesRow.domain false Rows.tokStatesRow.laid) (((OpenSpec.ofChange Rows.tokStatesSpec).at F).post enc Tryz.prog Tryz.f7 false true false false) := by
  obtain ⟨places, hx⟩ := reads os enc
  refine returnsInHanded_of_row (C := Tryz.checked) (s := OpenSpec.ofChange Rows.tokStatesSpec) own started (by kernel_rfl) Tryz.func7
    (witness_row_at (enc := enc) (C := Tryz.checked) false (laidWorld os) #[.string ByteArray.empty, .string ByteArray.empty, .int .u8 0] rfl (by kernel_rfl) (by kernel_rfl) (by kernel_rfl)
      (OpenSpec.preRow_of_cond 8 hx (by kernel_rfl) (fun k hk => by cases hk) (by kernel_rfl) (laid_met os))) ?_
  intro W base args ds gs before hval0 hW _ _ _ hL hsh _
  have hval : ∀ (j : Nat) t v, Tryz.f7.params[j]? = some t → args[j]? = some v → Value.okWide Tryz.prog W .any base t v := hval0
  have hW' := hW
  obtain ⟨p, q, hA0, hV, rfl, hfz, hnd⟩ := hW
  have hA : DataW.TrodAll enc Tryz.prog W 0 (fun _ => true) true Tryz.f7.params.toList args.toList ds p := hA0
  rw [Tryz.params7] at hA hval
  obtain ⟨v0, vs0, d0, ds0, p0, q0, hargs, rfl, rfl, h0, r0⟩ := trodAll_cons hA
  obtain ⟨v1, vs1, d1, ds1, p1, q1, rfl, rfl, rfl, h1, r1⟩ := trodAll_cons r0
  obtain ⟨v2, vs2, d2, ds2, p2, q2, rfl, rfl, rfl, h2, r2⟩ := trodAll_cons r1
  obtain ⟨rfl, rfl, rfl⟩ := trodAll_nil r2
  obtain rfl : args = #[v0, v1, v2] := by cases args; simp_all
  obtain ⟨rfl, rfl⟩ := trodVars_none hV
  obtain ⟨a0, rfl, rfl, rfl, w0⟩ := open_string Tryz.underlying9 (hval 0 9 v0 rfl rfl) h0
  obtain ⟨a1, rfl, rfl, rfl, w1⟩ := open_string Tryz.underlying9 (hval 1 9 v1 rfl rfl) h1
  obtain ⟨a2, rfl, rfl, rfl, w2⟩ := open_int Tryz.underlying5 (hval 2 5 v2 rfl rfl) h2
  clear hA0 hval0
  refine (walk a0 a1 a2 w0 w1 w2 W (tabAt_of hL hsh)).mono fun e W' ⟨he, bel⟩ => ?_
  subst he
  exact ⟨_, rfl, _, _, _, [], _, [], hW', trodAll_mk1 (shut_bool Tryz.underlying4 _), (trodAll_cons_mk (shut_string Tryz.underlying9 w0) (trodAll_cons_mk (shut_string Tryz.underlying9 w1) (trodAll_cons_mk (shut_int Tryz.underlying5 w2) trodAll_mk0))), rfl, bel.frame _, fun h => by cases h⟩

theorem said : Rows.TokStatesSaid :=
  OpenClaim.holds_of_cond 7 Tryz.f7 rfl rfl rfl rfl rfl rfl rfl ⟨rfl, rfl, rfl, rfl, rfl⟩ rfl rfl rfl rfl rfl (by kernel_rfl) Tryz.func7 (by kernel_rfl)
    (of_decide_eq_true (by kernel_rfl)) (by unfold Func.isWrapper; first | (rw [if_pos (by decide +kernel)]; kernel_rfl) | (rw [if_neg (by decide +kernel)]; exact ⟨rfl, rfl⟩))
    (fun os started H enc _ F => by rw [OpenClaim.pre_eq_preRow]; exact lifted os started H enc F)
theorem plain (f : FuncId) (fn : Func) (hf : Tryz.pinned.checked.prog.funcNamed "flail/flaillaw15.TokStates" = some f) (hfn : Tryz.pinned.checked.prog.funcs[f]? = some fn) :
    true = Tryz.pinned.checked.prog.looks [] ∧ ∀ (j : Nat) t, fn.params[j]? = some t → Tryz.pinned.checked.prog.wantsStandIn t = false := by
  obtain rfl : f = 7 := Option.some.inj ((show Tryz.prog.funcNamed "flail/flaillaw15.TokStates" = some 7 by kernel_rfl).symm.trans hf) |>.symm
  obtain rfl : fn = Tryz.f7 := (Option.some.inj (Tryz.func7.symm.trans hfn)).symm
  refine ⟨by kernel_rfl, fun j t ht => ?_⟩
  rw [Tryz.params7] at ht
  have hm : t ∈ [9, 5] := by first | simpa using Array.mem_of_getElem? ht | (have h := Array.mem_of_getElem? ht; simp at h ⊢; grind)
  have hall : ([9, 5].all fun u => !Tryz.prog.wantsStandIn u) = true := by kernel_rfl
  exact (show Tryz.prog.wantsStandIn t = false by simpa using List.all_eq_true.1 hall t hm)
/-- the statement: the row's card -/
theorem proved : Rows.TokStatesCardSaid :=
  Claim7.holds_tied_plain_at .later [] _ _ _ _ said (fun _ h => by cases h) (by kernel_rfl) (fun _ h => by cases h) tokStates_row_tie rfl ⟨rfl, rfl⟩ (by kernel_rfl) rfl plain (by kernel_rfl)
end Go.Proofs.YtaebcplffgaonaaGreatDoor.tokStates
