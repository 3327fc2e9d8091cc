/-
  The law DriveEnds of flail/flaillaw16 answers true for every input, and changes nothing that was there. Condition, which the card ties to the program's text: when the call begins, the package variables that the row lists hold what that text lays in them (math/bits.deBruijn32tab, math/bits.deBruijn64tab, internal/strconv.uint64pow10, strconv.ErrRange, strconv.ErrSyntax, flail/number.others).
-/
import Derived.Test.YtdcbjgmjmdgmmaaGreatDoorRows
import Derived.Test.YtdcbjgmjmdgmmaaGreatDoorDrvAwake
import Derived.Test.YtdcbjgmjmdgmmaaGreatDoorTkCode
import Derived.Test.YtdcbjgmjmdgmmaaGreatDoorTkDrop
import Derived.Test.YtdcbjgmjmdgmmaaGreatDoorCards
import Derived.Test.YtdcbjgmjmdgmmaaGreatDoorP6
import Derived.WalkKit
import Derived.ProofKit
import Derived.ChangeOld
import Derived.Below
import Derived.OpenShut
import Derived.ShutString
namespace Go.Proofs.YtdcbjgmjmdgmmaaGreatDoor.driveEnds
open Go.ChangeShapes Go.WideShapes Go.ChangeAt Go.RowKit
open Go.ChangeMaps (open_string shut_string)
set_option linter.unusedVariables false      -- a walk need not use every 'w<i>' (that an integer argument fits its kind)

theorem own : ownKnob Tryz.prog.godebug = none := by kernel_rfl

theorem nm_cell9 (i : Nat) (h : i < stTab.length) (h9 : i < 9) : ([.string ⟨#[116, 105, 116, 108, 101]⟩, .string ⟨#[116, 101, 120, 116, 97, 114, 101, 97]⟩, .string ⟨#[115, 116, 121, 108, 101]⟩, .string ⟨#[120, 109, 112]⟩, .string ⟨#[105, 102, 114, 97, 109, 101]⟩, .string ⟨#[110, 111, 101, 109, 98, 101, 100]⟩, .string ⟨#[110, 111, 102, 114, 97, 109, 101, 115]⟩, .string ⟨#[110, 111, 115, 99, 114, 105, 112, 116]⟩, .string ⟨#[115, 99, 114, 105, 112, 116]⟩] : List Value)[i]? = some (.string ⟨stTab[i].1.toArray⟩) := by
  match i, h9 with
  | 0, _ => rfl
  | 1, _ => rfl
  | 2, _ => rfl
  | 3, _ => rfl
  | 4, _ => rfl
  | 5, _ => rfl
  | 6, _ => rfl
  | 7, _ => rfl
  | 8, _ => rfl
theorem nm_not4 : ∀ i (h : i < stTab.length), i < 9 → (stTab[i]'h).2 ≠ 4 := by
  intro i h h9
  match i, h9 with
  | 0, _ => exact show (1 : Int) ≠ 4 by decide
  | 1, _ => exact show (1 : Int) ≠ 4 by decide
  | 2, _ => exact show (2 : Int) ≠ 4 by decide
  | 3, _ => exact show (2 : Int) ≠ 4 by decide
  | 4, _ => exact show (2 : Int) ≠ 4 by decide
  | 5, _ => exact show (2 : Int) ≠ 4 by decide
  | 6, _ => exact show (2 : Int) ≠ 4 by decide
  | 7, _ => exact show (2 : Int) ≠ 4 by decide
  | 8, _ => exact show (3 : Int) ≠ 4 by decide
theorem ends_list (N s m : ByteArray) : (⟨#[60]⟩ ++ N ++ ⟨#[62]⟩ ++ s ++ ⟨#[60, 47]⟩ ++ N ++ ⟨#[62]⟩ ++ m).data.toList = 60 :: (N.data.toList ++ 62 :: (s.data.toList ++ (60 :: 47 :: (N.data.toList ++ 62 :: m.data.toList)))) := by
  simp [ByteArray.data_append]
theorem opt_at (s : ByteArray) (i : Nat) (h : i < s.size) : s.data.toList[i]? = some s[i] := by
  rw [List.getElem?_eq_getElem (by rw [← Lib.size_eq]; exact h)]; rfl
theorem drvL_len (s : Txt) : (drvL s).length ≤ 3 * s.length := Nat.le_trans (join_len _) (drv_len _ _)
/-- a literal of one token, as a row -/
theorem rowTk_one (w : World) (base g : Nat) (hg : w.heap.size = g) (hb : base ≤ g) (q : TkV) (hq : q.t.attrs = []) (hr : IsRows w q.ad q.len q.cap q.t.attrs) : RowTk (w.alloc (.cells q.five.toArray 30)) base (.slice (some ⟨g, 0, none⟩) 1 1) [q] := by
  subst hg
  have h := OwnsG.new w q.five.toArray (0, 0) base 30 5 1 1 hb (.inl (Nat.zero_le _)) (Nat.le_refl _) (by simp [maxLen]) rfl
  refine ⟨by simpa [cellsT_one, TkV.five] using h, fun u hu => ?_⟩
  rw [List.mem_singleton.1 hu]
  exact ⟨hr.below ((Below.refl _ w).alloc (Nat.le_refl _) _) (Nat.le_refl _), .inl hq⟩
theorem tok_len_any (st : Int) (nm s : Txt) : (tokL st nm s).length ≤ s.length + 2 := by
  unfold tokL
  split
  · refine Nat.le_trans (join_len _) ?_
    have h1 : (restK st nm s).1.length ≤ 2 := by
      have he := emit_len (saysR st nm s)
      unfold restK
      split
      · split
        · simp only; omega
        · split
          · cases tagR (s.drop (endN15 st nm s)) with
            | none => simp only; omega
            | some r => simp only [List.length_append, List.length_cons, List.length_nil]; omega
          · simp only; omega
      · exact Nat.zero_le _
    have h2 := toks_len (s.drop (restK st nm s).2).length (s.drop (restK st nm s).2)
    rw [List.length_append]
    rw [List.length_drop] at h2
    show _ + (toksR _ _).length ≤ _
    rw [List.length_drop]
    omega
  · exact Nat.zero_le _
set_option maxRecDepth 100000 in
set_option maxHeartbeats 8000000 in
theorem walk (a0 : ByteArray) (a1 : ByteArray) (a2 : Int) (w0 : a0.size ≤ maxLen) (w1 : a1.size ≤ maxLen) (w2 : (Lit.int .u8 a2).wf = true) (w : World) (hT : LaidAt w) :
    Calls Tryz.prog 8 #[.string a0, .string a1, .int .u8 a2] w fun e w' => e = .returned (.bool true) ∧ Below w.heap.size w w' := by
  have hb2 : 0 ≤ a2 ∧ a2 ≤ 255 := by simpa [Lit.wf, IntKind.min, IntKind.max, IntKind.signed, IntKind.bits] using w2
  obtain ⟨h20, h21⟩ := hb2
  clear w0 w1 w2
  have HW := Lib.hid hT
  clear hT
  by_cases hlen : 300 < a0.size ∨ 300 < a1.size
  · have hc : decide ((300 : Int) < (a0.size : Int)) = true ∨ decide ((300 : Int) < (a0.size : Int)) = false ∧ decide ((300 : Int) < (a1.size : Int)) = true := by
      simp only [decide_eq_true_eq, decide_eq_false_iff_not]; omega
    clear hlen
    rcases hc with hc | ⟨hc, hd⟩
    all_goals
      go_enter Tryz.func8, Tryz.ntmps8
      go_wp2_with (fail)
      refine (drvAwake_any w HW.out).mono ?_
      rintro e w1 ⟨rfl, c1⟩
      go_wp2
      go_ret
      exact ⟨rfl, c1⟩
  have d0 : decide ((300 : Int) < (a0.size : Int)) = false := decide_eq_false (by omega)
  have d1 : decide ((300 : Int) < (a1.size : Int)) = false := decide_eq_false (by omega)
  have hs0 : a0.size ≤ 300 := by omega
  have hs1 : a1.size ≤ 300 := by omega
  obtain ⟨i0, hi0, hz0, hz1, hz2⟩ := info_parts info_tok
  obtain ⟨R, hR⟩ : ∃ R : Nat, a2 % 9 = (R : Int) := ⟨(a2 % 9).toNat, by omega⟩
  have hR2 : R < 9 := by omega
  have hRT : R < stTab.length := by show R < 10; omega
  have hcell0 := nm_cell9 R hRT hR2
  have hmem : stTab[R] ∈ stTab := List.getElem_mem hRT
  have hno4 := nm_not4 R hRT hR2
  obtain ⟨p, hp⟩ : ∃ p, stTab[R] = p := ⟨_, rfl⟩
  rw [hp] at hcell0 hmem hno4
  have hn9 : p.1.length ≤ 9 := (show ∀ p ∈ stTab, p.1.length ≤ 9 by decide) p hmem
  have HEND := Lib.hid (fun (h : 60 ∉ a0.data.toList) => drv_ends p hmem hno4 a0.data.toList a1.data.toList h)
  obtain ⟨nm, hnm⟩ : ∃ nm, p.1 = nm := ⟨_, rfl⟩
  rw [hnm] at hcell0 hn9 HEND
  obtain ⟨N, hN⟩ : ∃ N : ByteArray, (⟨nm.toArray⟩ : ByteArray) = N := ⟨_, rfl⟩
  have hN2 : N.data.toList = nm := by rw [← hN, List.toList_toArray]
  rw [hN] at hcell0
  have hNs : N.size ≤ 9 := by rw [Lib.size_eq, hN2]; exact hn9
  have HP := fun w h => Lib.hid (drvState_any N w (by omega) h)
  rw [hN2] at HP
  obtain ⟨st, hst⟩ : ∃ st, drvN nm = st := ⟨_, rfl⟩
  have hsr := st_range nm
  have H1 := fun w h => Lib.hid (tokTok_any a0 (drvN nm) N w (by omega) (by omega) (by omega) h)
  have H2 := fun w h => Lib.hid (drvDrive_any a1 w (by omega) h)
  have H3 := fun w h => Lib.hid (drvDrive_any (⟨#[60]⟩ ++ N ++ ⟨#[62]⟩ ++ a0 ++ ⟨#[60, 47]⟩ ++ N ++ ⟨#[62]⟩ ++ a1) w (by
    simp only [ByteArray.size_append, show (ByteArray.mk #[60]).size = 1 from rfl, show (ByteArray.mk #[62]).size = 1 from rfl, show (ByteArray.mk #[60, 47]).size = 2 from rfl]; omega) h)
  rw [ends_list, hN2] at H3
  rw [hN2] at H1
  have hl1 := tok_len_any (drvN nm) nm a0.data.toList
  have hl2 := drvL_len a1.data.toList
  rw [← Lib.size_eq] at hl1 hl2
  obtain ⟨A1, hA1⟩ : ∃ T, tokL (drvN nm) nm a0.data.toList = T := ⟨_, rfl⟩
  obtain ⟨A2, hA2⟩ : ∃ D, drvL a1.data.toList = D := ⟨_, rfl⟩
  obtain ⟨A3, hA3⟩ : ∃ D, drvL (60 :: (nm ++ 62 :: (a0.data.toList ++ (60 :: 47 :: (nm ++ 62 :: a1.data.toList))))) = D := ⟨_, rfl⟩
  rw [hA1] at H1 HEND hl1
  rw [hA2] at H2 HEND hl2
  rw [hA3] at H3 HEND
  rw [hst] at HP H1
  have hl1 : A1.length ≤ 1000000 := by omega
  have hl2 : A2.length ≤ 1000000 := by omega
  have p1 : ¬ 9223372036854775807 < 1 + N.size := by omega
  have p2 : ¬ 9223372036854775807 < 1 + N.size + 1 := by omega
  have p3 : ¬ 9223372036854775807 < 1 + N.size + 1 + a0.size := by omega
  have p4 : ¬ 9223372036854775807 < 1 + N.size + 1 + a0.size + 2 := by omega
  have p5 : ¬ 9223372036854775807 < 1 + N.size + 1 + a0.size + 2 + N.size := by omega
  have p6 : ¬ 9223372036854775807 < 1 + N.size + 1 + a0.size + 2 + N.size + 1 := by omega
  have p7 : ¬ 9223372036854775807 < 1 + N.size + 1 + a0.size + 2 + N.size + 1 + a1.size := by omega
  have HN := Lib.hid hN
  obtain ⟨hlt', hget⟩ := List.getElem?_eq_some_iff.1 hcell0
  have HGET := Lib.hid hget
  have HR := Lib.hid hR
  clear hcell0 hA1 hA2 hA3 hlen hst hsr hnm hN hN2 hn9 hmem hno4 hp hget hR
  go_enter Tryz.func8, Tryz.ntmps8
  go_wp2_with (fail)
  refine (drvAwake_any w HW.out).mono ?_
  rintro e w1 ⟨rfl, c1⟩
  have B1 := Lib.hid c1
  go_wp2
  clear d0 d1
  go_loopw [8] (fun v wr => ∃ i : Nat, v = .int .i64 (i : Int) ∧ w1 = wr ∧ i ≤ a0.size ∧ Hid (∀ j, j < i → a0.data.toList[j]? ≠ some 60)) (fun v _ => a0.size - (intOf v).toNat)
  case atStart => exact ⟨0, rfl, rfl, Nat.zero_le _, Lib.hid fun j h => absurd h (by omega)⟩
  case round =>
    obtain ⟨i, rfl, rfl, hi, HI⟩ := hrel
    by_cases hlt : i < a0.size
    · have HO := Lib.hid (opt_at a0 i hlt)
      by_cases c60 : a0[i] = 60
      · have b60 : (((a0[i].toNat : Nat) : Int) == 60) = true := by rw [c60]; rfl
        clear c60
        go_wp2
        go_ret
        exact ⟨rfl, c1⟩
      have b60 : (((a0[i].toNat : Nat) : Int) == 60) = false := by
        rw [beq_eq_false_iff_ne]; exact fun h => c60 (u8_eq _ 60 (by decide) h)
      have hn : ∀ j, j < i + 1 → a0.data.toList[j]? ≠ some 60 := fun j hj => by
        rcases Nat.lt_or_eq_of_le (Nat.le_of_lt_succ hj) with h1 | rfl
        · exact HI.out j h1
        · rw [HO.out]; exact fun e => c60 (Option.some.inj e)
      have HN := Lib.hid hn
      clear hn c60
      go_wp2
      go_roundw
      case rel => exact ⟨i + 1, by go_num, trivial, by omega, HN⟩
      case measure => simp [intOf]; omega
    · have h60 := no60 a0.data.toList (fun j hj => HI.out j (by rw [← Lib.size_eq] at hj; omega))
      have HLL := Lib.hid (HEND.out h60)
      clear h60 HI HEND c1
      have hb1 := B1.out.size
      have B2 := Lib.hid ((B1.out.alloc hb1 (.cells #[.string ⟨#[116, 105, 116, 108, 101]⟩, .string ⟨#[116, 101, 120, 116, 97, 114, 101, 97]⟩, .string ⟨#[115, 116, 121, 108, 101]⟩, .string ⟨#[120, 109, 112]⟩, .string ⟨#[105, 102, 114, 97, 109, 101]⟩, .string ⟨#[110, 111, 101, 109, 98, 101, 100]⟩, .string ⟨#[110, 111, 102, 114, 97, 109, 101, 115]⟩, .string ⟨#[110, 111, 115, 99, 114, 105, 112, 116]⟩, .string ⟨#[115, 99, 114, 105, 112, 116]⟩] 9)).alloc (by simp; omega) (.cells #[.int .i64 1, .string N, .string ⟨#[]⟩, .slice none 0 0, .bool false] 30))
      have R0 : Hid (RowTk ((w1.alloc (.cells #[.string ⟨#[116, 105, 116, 108, 101]⟩, .string ⟨#[116, 101, 120, 116, 97, 114, 101, 97]⟩, .string ⟨#[115, 116, 121, 108, 101]⟩, .string ⟨#[120, 109, 112]⟩, .string ⟨#[105, 102, 114, 97, 109, 101]⟩, .string ⟨#[110, 111, 101, 109, 98, 101, 100]⟩, .string ⟨#[110, 111, 102, 114, 97, 109, 101, 115]⟩, .string ⟨#[110, 111, 115, 99, 114, 105, 112, 116]⟩, .string ⟨#[115, 99, 114, 105, 112, 116]⟩] 9)).alloc (.cells #[.int .i64 1, .string N, .string ⟨#[]⟩, .slice none 0 0, .bool false] 30)) w.heap.size (.slice (some ⟨w1.heap.size + 1, 0, none⟩) 1 1) [(⟨⟨1, nm, [], [], false⟩, none, 0, 0⟩ : TkV)]) := Lib.hid (by
        rw [← HN.out]
        exact rowTk_one (w1.alloc (.cells #[.string ⟨#[116, 105, 116, 108, 101]⟩, .string ⟨#[116, 101, 120, 116, 97, 114, 101, 97]⟩, .string ⟨#[115, 116, 121, 108, 101]⟩, .string ⟨#[120, 109, 112]⟩, .string ⟨#[105, 102, 114, 97, 109, 101]⟩, .string ⟨#[110, 111, 101, 109, 98, 101, 100]⟩, .string ⟨#[110, 111, 102, 114, 97, 109, 101, 115]⟩, .string ⟨#[110, 111, 115, 99, 114, 105, 112, 116]⟩, .string ⟨#[115, 99, 114, 105, 112, 116]⟩] 9)) w.heap.size _ (by simp) (by omega) ⟨⟨1, nm, [], [], false⟩, none, 0, 0⟩ rfl (isRows_none _))
      have hget := HGET.out
      have hR := HR.out
      go_wp2_with (fail)
      refine (HP _ (HW.out.below B2.out)).out.mono ?_
      rintro e w2 ⟨rfl, c2⟩
      have B3 := Lib.hid (B2.out.trans (c2.mono B2.out.size))
      have R2 := Lib.hid (R0.out.below c2)
      clear c2 hget hR
      go_wp2_with (fail)
      refine (H1 _ (HW.out.below B3.out)).out.mono ?_
      rintro e w3 ⟨x, l, c, rfl, t3, c3⟩
      obtain ⟨Q1, hq1, hl3, hsrc, hq3⟩ := isToks_src t3
      subst hl3
      have hq1l : Q1.length ≤ 1000000 := by rw [← hq1, List.length_map] at hl1; exact hl1
      have R3 := Lib.hid (R2.out.below c3)
      have S3 := Lib.hid hsrc
      have K3 := Lib.hid (fun q (hm : q ∈ Q1) => attOk_row (q := q) R2.out (hq3 q hm).1 (hq3 q hm).2)
      have B4 := Lib.hid (B3.out.trans (c3.mono B3.out.size))
      have hb4 := B4.out.size
      have HQ1 := Lib.hid hq1
      clear t3 c3 hsrc hq3 hq1 hl1
      go_wp2_with (at_builtin; refine wpList_append_G _ rfl _ _ 24 24 rfl w.heap.size 30 i0 _ 5 72 Tryz.underlying24 hi0 hz0 hz1 hz2 rfl _ 1 (cellsT [(⟨⟨1, nm, [], [], false⟩, none, 0, 0⟩ : TkV)]) rfl R3.out.1 _ Q1.length (cellsT Q1) rfl S3.out ?c1 ?c2 ?c3 ?_)
      case c1 => first | (simp [maxLen]; omega) | omega
      case c2 => first | omega | (simp; omega)
      case c3 => first | omega | (simp; omega)
      intro v4 w4 hown1 hgr1 hat1
      have P4 := Lib.hid (rowTk_push (Q := [(⟨⟨1, nm, [], [], false⟩, none, 0, 0⟩ : TkV)]) (R := Q1) R3.out K3.out B4.out (Nat.le_refl _) (by first | exact hown1 | simpa using hown1) hgr1 (by simpa using hat1))
      clear hown1 hgr1 hat1
      have R4 := Lib.hid P4.out.1
      have B5 := Lib.hid P4.out.2
      have hb5 := B5.out.size
      have R5 := Lib.hid (R4.out.below ((Below.refl _ w4).alloc (Nat.le_refl _) (.cells #[.int .i64 2, .string N, .string ⟨#[]⟩, .slice none 0 0, .bool false] 30)))
      have B6 := Lib.hid (B5.out.alloc hb5 (.cells #[.int .i64 2, .string N, .string ⟨#[]⟩, .slice none 0 0, .bool false] 30))
      have hb6 := B6.out.size
      have S5 : Hid (Src Tryz.prog 5 24 (.slice (some ⟨w4.heap.size, 0, none⟩) 1 1) 1 (cellsT [(⟨⟨2, nm, [], [], false⟩, none, 0, 0⟩ : TkV)]) (w4.alloc (.cells #[.int .i64 2, .string N, .string ⟨#[]⟩, .slice none 0 0, .bool false] 30))) := Lib.hid (by
        rw [← HN.out]
        exact Src.ofSlice (P := Tryz.prog) (size := 5) _ Tryz.underlying24 ⟨w4.heap.size, 0, none⟩ 1 1 (cellsT [(⟨⟨2, nm, [], [], false⟩, none, 0, 0⟩ : TkV)]) rfl (new_five w4 ⟨⟨2, nm, [], [], false⟩, none, 0, 0⟩ 30) (five_one _))
      have hql1 : ([(⟨⟨1, nm, [], [], false⟩, none, 0, 0⟩ : TkV)] ++ Q1).length = Q1.length + 1 := by simp
      go_wp2_with (at_builtin; refine wpList_append_G _ rfl _ _ 24 24 rfl w.heap.size 30 i0 _ 5 72 Tryz.underlying24 hi0 hz0 hz1 hz2 rfl _ ([(⟨⟨1, nm, [], [], false⟩, none, 0, 0⟩ : TkV)] ++ Q1).length (cellsT ([(⟨⟨1, nm, [], [], false⟩, none, 0, 0⟩ : TkV)] ++ Q1)) rfl R5.out.1 _ 1 (cellsT [(⟨⟨2, nm, [], [], false⟩, none, 0, 0⟩ : TkV)]) rfl S5.out ?c1 ?c2 ?c3 ?_)
      case c1 => first | (simp [maxLen]; omega) | omega
      case c2 => first | omega | (simp; omega)
      case c3 => first | omega | (simp; omega)
      intro v6 w6 hown1 hgr1 hat1
      have P6 := Lib.hid (rowTk_push (R := [(⟨⟨2, nm, [], [], false⟩, none, 0, 0⟩ : TkV)]) R5.out (fun q h => by
        rw [List.mem_singleton.1 h]
        exact ⟨isRows_none _, .inl rfl⟩) B6.out (Nat.le_refl _) (by first | exact hown1 | simpa using hown1) hgr1 (by simpa using hat1))
      clear hown1 hgr1 hat1
      have R6 := Lib.hid P6.out.1
      have B7 := Lib.hid P6.out.2
      go_wp2_with (fail)
      refine (H2 _ (HW.out.below B7.out)).out.mono ?_
      rintro e w7 ⟨x', l', c', rfl, t7, c7⟩
      obtain ⟨Q3, hq3, hl7, hsrc, hq7⟩ := isToks_src t7
      subst hl7
      have hq3l : Q3.length ≤ 1000000 := by rw [← hq3, List.length_map] at hl2; exact hl2
      have R7 := Lib.hid (R6.out.below c7)
      have S7 := Lib.hid hsrc
      have K7 := Lib.hid (fun q (hm : q ∈ Q3) => attOk_row (q := q) R6.out (hq7 q hm).1 (hq7 q hm).2)
      have B8 := Lib.hid (B7.out.trans (c7.mono B7.out.size))
      have hb8 := B8.out.size
      have HQ3 := Lib.hid hq3
      have hql2 : ([(⟨⟨1, nm, [], [], false⟩, none, 0, 0⟩ : TkV)] ++ Q1 ++ [(⟨⟨2, nm, [], [], false⟩, none, 0, 0⟩ : TkV)]).length = Q1.length + 2 := by simp
      clear t7 c7 hsrc hq7 hq3 hl2
      go_wp2_with (at_builtin; refine wpList_append_G _ rfl _ _ 24 24 rfl w.heap.size 30 i0 _ 5 72 Tryz.underlying24 hi0 hz0 hz1 hz2 rfl _ ([(⟨⟨1, nm, [], [], false⟩, none, 0, 0⟩ : TkV)] ++ Q1 ++ [(⟨⟨2, nm, [], [], false⟩, none, 0, 0⟩ : TkV)]).length (cellsT ([(⟨⟨1, nm, [], [], false⟩, none, 0, 0⟩ : TkV)] ++ Q1 ++ [(⟨⟨2, nm, [], [], false⟩, none, 0, 0⟩ : TkV)])) rfl R7.out.1 _ Q3.length (cellsT Q3) rfl S7.out ?c1 ?c2 ?c3 ?_)
      case c1 => first | (simp [maxLen]; omega) | omega
      case c2 => first | omega | (simp; omega)
      case c3 => first | omega | (simp; omega)
      intro v8 w8 hown1 hgr1 hat1
      have P8 := Lib.hid (rowTk_push R7.out K7.out B8.out (Nat.le_refl _) (by first | exact hown1 | simpa using hown1) hgr1 (by simpa using hat1))
      clear hown1 hgr1 hat1
      have R8 := Lib.hid P8.out.1
      have B9 := Lib.hid P8.out.2
      obtain ⟨y, d, hv, ty⟩ := R8.out.told
      obtain ⟨n8, hn8⟩ : ∃ n, ([(⟨⟨1, nm, [], [], false⟩, none, 0, 0⟩ : TkV)] ++ Q1 ++ [(⟨⟨2, nm, [], [], false⟩, none, 0, 0⟩ : TkV)] ++ Q3).length = n := ⟨_, rfl⟩
      rw [hn8] at hv ty
      subst hv
      clear hn8 hql1 hql2
      have HTY := Lib.hid ty
      clear ty
      go_wp2_with (fail)
      refine (H3 _ (HW.out.below B9.out)).out.mono ?_
      rintro e w9 ⟨z, m, f, rfl, t9, c9⟩
      have B10 := Lib.hid (B9.out.trans (c9.mono B9.out.size))
      have HTY := Lib.hid (HTY.out.below c9 (Nat.le_refl _))
      have HA := Lib.hid (refAll_any _ _ _ _ _ _ _ _ _ t9.toks HTY.out)
      have heq : A3 = ([(⟨⟨1, nm, [], [], false⟩, none, 0, 0⟩ : TkV)] ++ Q1 ++ [(⟨⟨2, nm, [], [], false⟩, none, 0, 0⟩ : TkV)] ++ Q3).map TkV.t := by
        rw [HLL.out, List.map_append, List.map_append, List.map_append, HQ1.out, HQ3.out]; simp
      rw [decide_eq_true heq] at HA
      clear t9 c9 heq
      go_wp2_with (fail)
      refine HA.out.mono ?_
      rintro e w10 ⟨rfl, c10⟩
      go_wp2
      go_ret
      exact ⟨ret_bool (by simp), B10.out.trans (c10.mono B10.out.size)⟩
  -- go_wp2
  -- go_ret
  -- exact ⟨rfl, by repeat (first | exact Grown.refl _ | apply Grown.drew | apply Grown.alloc)⟩

theorem laid_met (os : Os) : laidMet Tryz.prog Rows.driveEndsRow.laid ((laidWorld os).forCall (fun _ _ => 0) ⟨#[], #[.string ByteArray.empty, .string ByteArray.empty, .int .u8 0], []⟩).memory :=
  laidMet_of_run' 8 (by kernel_rfl) (by kernel_rfl)
theorem reads (os : Os) {H : Type} (enc : TypeId × Value → H) : ∃ places, DataW.whole enc Tryz.prog ((laidWorld os).forCall (fun _ _ => 0) ⟨#[], #[.string ByteArray.empty, .string ByteArray.empty, .int .u8 0], []⟩).memory Tryz.f8.params.toList Rows.driveEndsSpec.vars false (#[.string ByteArray.empty, .string ByteArray.empty, .int .u8 0] : Array Value).toList 8 = some ([.lit (.string []), .lit (.string []), .lit (.int .u8 0)], [], places) :=
  ⟨[], by kernel_rfl⟩
set_option maxRecDepth 100000 in
theorem lifted (os : Os) (started : os.Started) (H : Type) (enc : TypeId × Value → H) (F : Stop.Interp) :
    ReturnsInHanded {} Tryz.checked os 8 .any ((OpenSpec.ofChange Rows.driveEndsSpec).preRow enc Tryz.prog Tryz.f8 Rows.driveEndsRow.domain false Rows.driveEndsRow.laid) (((OpenSpec.ofChange Rows.driveEndsSpec).at F).post enc Tryz.prog Tryz.f8 false true false false) := by
  obtain ⟨places, hx⟩ := reads os enc
  refine returnsInHanded_of_row (C := Tryz.checked) (s := OpenSpec.ofChange Rows.driveEndsSpec) own started (by kernel_rfl) Tryz.func8
    (witness_row_at (enc := enc) (C := Tryz.checked) false (laidWorld os) #[.string ByteArray.empty, .string ByteArray.empty, .int .u8 0] rfl (by kernel_rfl) (by kernel_rfl) (by kernel_rfl)
      (OpenSpec.preRow_of_cond 8 hx (by kernel_rfl) (fun k hk => by cases hk) (by kernel_rfl) (laid_met os))) ?_
  intro W base args ds gs before hval0 hW _ _ _ hL hsh _
  have hval : ∀ (j : Nat) t v, Tryz.f8.params[j]? = some t → args[j]? = some v → Value.okWide Tryz.prog W .any base t v := hval0
  have hW' := hW
  obtain ⟨p, q, hA0, hV, rfl, hfz, hnd⟩ := hW
  have hA : DataW.TrodAll enc Tryz.prog W 0 (fun _ => true) true Tryz.f8.params.toList args.toList ds p := hA0
  rw [Tryz.params8] at hA hval
  obtain ⟨v0, vs0, d0, ds0, p0, q0, hargs, rfl, rfl, h0, r0⟩ := trodAll_cons hA
  obtain ⟨v1, vs1, d1, ds1, p1, q1, rfl, rfl, rfl, h1, r1⟩ := trodAll_cons r0
  obtain ⟨v2, vs2, d2, ds2, p2, q2, rfl, rfl, rfl, h2, r2⟩ := trodAll_cons r1
  obtain ⟨rfl, rfl, rfl⟩ := trodAll_nil r2
  obtain rfl : args = #[v0, v1, v2] := by cases args; simp_all
  obtain ⟨rfl, rfl⟩ := trodVars_none hV
  obtain ⟨a0, rfl, rfl, rfl, w0⟩ := open_string Tryz.underlying9 (hval 0 9 v0 rfl rfl) h0
  obtain ⟨a1, rfl, rfl, rfl, w1⟩ := open_string Tryz.underlying9 (hval 1 9 v1 rfl rfl) h1
  obtain ⟨a2, rfl, rfl, rfl, w2⟩ := open_int Tryz.underlying5 (hval 2 5 v2 rfl rfl) h2
  clear hA0 hval0
  refine (walk a0 a1 a2 w0 w1 w2 W (tabAt_of hL hsh)).mono fun e W' ⟨he, bel⟩ => ?_
  subst he
  exact ⟨_, rfl, _, _, _, [], _, [], hW', trodAll_mk1 (shut_bool Tryz.underlying4 _), (trodAll_cons_mk (shut_string Tryz.underlying9 w0) (trodAll_cons_mk (shut_string Tryz.underlying9 w1) (trodAll_cons_mk (shut_int Tryz.underlying5 w2) trodAll_mk0))), rfl, bel.frame _, fun h => by cases h⟩

theorem said : Rows.DriveEndsSaid :=
  OpenClaim.holds_of_cond 8 Tryz.f8 rfl rfl rfl rfl rfl rfl rfl ⟨rfl, rfl, rfl, rfl, rfl⟩ rfl rfl rfl rfl rfl (by kernel_rfl) Tryz.func8 (by kernel_rfl)
    (of_decide_eq_true (by kernel_rfl)) (by unfold Func.isWrapper; first | (rw [if_pos (by decide +kernel)]; kernel_rfl) | (rw [if_neg (by decide +kernel)]; exact ⟨rfl, rfl⟩))
    (fun os started H enc _ F => by rw [OpenClaim.pre_eq_preRow]; exact lifted os started H enc F)
theorem plain (f : FuncId) (fn : Func) (hf : Tryz.pinned.checked.prog.funcNamed "flail/flaillaw16.DriveEnds" = some f) (hfn : Tryz.pinned.checked.prog.funcs[f]? = some fn) :
    true = Tryz.pinned.checked.prog.looks [] ∧ ∀ (j : Nat) t, fn.params[j]? = some t → Tryz.pinned.checked.prog.wantsStandIn t = false := by
  obtain rfl : f = 8 := Option.some.inj ((show Tryz.prog.funcNamed "flail/flaillaw16.DriveEnds" = some 8 by kernel_rfl).symm.trans hf) |>.symm
  obtain rfl : fn = Tryz.f8 := (Option.some.inj (Tryz.func8.symm.trans hfn)).symm
  refine ⟨by kernel_rfl, fun j t ht => ?_⟩
  rw [Tryz.params8] at ht
  have hm : t ∈ [9, 5] := by first | simpa using Array.mem_of_getElem? ht | (have h := Array.mem_of_getElem? ht; simp at h ⊢; grind)
  have hall : ([9, 5].all fun u => !Tryz.prog.wantsStandIn u) = true := by kernel_rfl
  exact (show Tryz.prog.wantsStandIn t = false by simpa using List.all_eq_true.1 hall t hm)
/-- the statement: the row's card -/
theorem proved : Rows.DriveEndsCardSaid :=
  Claim7.holds_tied_plain_at .later [] _ _ _ _ said (fun _ h => by cases h) (by kernel_rfl) (fun _ h => by cases h) driveEnds_row_tie rfl ⟨rfl, rfl⟩ (by kernel_rfl) rfl plain (by kernel_rfl)
end Go.Proofs.YtdcbjgmjmdgmmaaGreatDoor.driveEnds
