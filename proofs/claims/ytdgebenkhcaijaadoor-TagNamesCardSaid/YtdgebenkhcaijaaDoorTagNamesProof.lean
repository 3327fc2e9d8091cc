/-
  The law TagNames of flail/flaillaw09 answers true for every input, and changes nothing that was there. Condition, which the card ties to the program's text: when the call begins, the package variables that the row lists hold what that text lays in them (math/bits.deBruijn32tab, math/bits.deBruijn64tab, internal/strconv.uint64pow10, strconv.ErrRange, strconv.ErrSyntax, flail/number.others).
-/
import Derived.Test.YtdgebenkhcaijaaDoorRows
import Derived.Test.YtdgebenkhcaijaaDoorTagAwake
import Derived.Test.YtdgebenkhcaijaaDoorP8
import Derived.Test.YtdgebenkhcaijaaDoorCards
import Derived.Test.YtdgebenkhcaijaaDoorP6
import Derived.WalkKit
import Derived.ProofKit
import Derived.ChangeOld
import Derived.Below
import Derived.OpenShut
import Derived.ShutString
namespace Go.Proofs.YtdgebenkhcaijaaDoor.tagNames
open Go.ChangeShapes Go.WideShapes Go.ChangeAt Go.RowKit
open Go.ChangeMaps (open_string shut_string)
set_option linter.unusedVariables false      -- a walk need not use every 'w<i>' (that an integer argument fits its kind)

theorem own : ownKnob Tryd.prog.godebug = none := by kernel_rfl

theorem name_bytes (nm : Txt) (h : ∀ x ∈ nm, tagB x = true) : ∀ y ∈ tellN nm, byteOk y := by
  intro y hy
  unfold tellN at hy
  rcases mem_clean y _ hy with ⟨hm, h0⟩ | rfl | rfl | rfl
  · unfold lowL at hm
    obtain ⟨x, hx, rfl⟩ := List.mem_map.1 hm
    have hb := h x hx
    unfold tagB at hb
    simp only [Bool.not_eq_true', Bool.or_eq_false_iff, beq_eq_false_iff_ne] at hb
    exact (low_ok x hb.1.1 hb.2 hb.1.2 h0).1
  · exact bad_ok.1
  · exact bad_ok.2.1
  · exact bad_ok.2.2
theorem name_first (c : UInt8) (t : Txt) (h : letB c = true) : ∃ d r, tellN (c :: t) = d :: r ∧ 97 ≤ d.toNat ∧ d.toNat ≤ 122 := by
  obtain ⟨-, h1, h2⟩ := let_is c h
  refine ⟨lowB c, cleanL (lowL t), ?_, h1, h2⟩
  unfold tellN
  rw [lowL_cons, cleanL, if_neg (fun e => by rw [e] at h1; exact absurd h1 (by decide))]
theorem at_byte (s : ByteArray) (k : Nat) (c : UInt8) (hk : k < s.size) (h : s.data.toList.getD k 0 = c) : s[k] = c := by rw [← getD_is s k hk]; exact h
/-- a name's bytes in a text -/
def NmS (N : ByteArray) : Prop := 1 ≤ N.size ∧ N.toList.isEmpty = false ∧ (∀ h : 0 < N.size, 97 ≤ N[0].toNat ∧ N[0].toNat ≤ 122) ∧ ∀ m (h : m < N.size), byteOk N[m]
theorem nmS_of (nm : Txt) (h1 : ∃ d r, nm = d :: r ∧ 97 ≤ d.toNat ∧ d.toNat ≤ 122) (h2 : ∀ y ∈ nm, byteOk y) : NmS ⟨nm.toArray⟩ := by
  obtain ⟨d, r, rfl, h3, h4⟩ := h1
  refine ⟨by rw [Lib.size_eq, List.toList_toArray]; simp, by rw [ByteArray.toList_eq]; rfl, fun _ => ⟨h3, h4⟩, fun m hm => ?_⟩
  rw [Lib.size_eq, List.toList_toArray] at hm
  exact h2 _ (List.getElem_mem hm)
theorem names_told (S : ByteArray) (k : Nat) (hk : k < S.size) :
    (∃ n : Int, tagV S.data.toList (k : Int) = (zeroT, n, false) ∧ (n = (k : Int) ∧ begV S.data.toList (k : Int) = false ∨ n = (S.size : Int) ∧ begV S.data.toList (k : Int) = true)) ∨
    ∃ (n : Nat) (e : Bool) (nm : Txt) (l : List Ln) (se : Bool), tagV S.data.toList (k : Int) = (⟨if e then 2 else 1, nm, [], l, se⟩, (n : Int), true) ∧ k + 3 ≤ n ∧ n ≤ S.size ∧ S.data.toList.getD k 0 = 60 ∧ S.data.toList.getD (n - 1) 0 = 62 ∧ (S.data.toList.getD (k + 1) 0 = 47 ↔ e = true) ∧ (e = true → l = [] ∧ se = false) ∧ NmS ⟨nm.toArray⟩ ∧ nm.length ≤ 3 * S.size := by
  obtain ⟨L, hL⟩ : ∃ L, S.data.toList.drop k = L := ⟨_, rfl⟩
  have hLl : L.length = S.size - k := by rw [← hL, List.length_drop, ← Lib.size_eq]
  have hget : ∀ j, S.data.toList.getD (k + j) 0 = L.getD j 0 := fun j => by
    rw [← hL, List.getD_eq_getElem?_getD, List.getD_eq_getElem?_getD, List.getElem?_drop]
  by_cases hb : begT L ≠ 0
  · have hbv : begV S.data.toList (k : Int) = true := by rw [beg_in, hL]; exact decide_eq_true hb
    cases hr : tagR L with
    | none => exact .inl ⟨_, tag_none S.data.toList k (by rw [hL]; exact hb) (by rw [hL]; exact hr), .inr ⟨by rw [← Lib.size_eq], hbv⟩⟩
    | some r =>
      obtain ⟨t, n⟩ := r
      obtain ⟨e1, e2, e3, al, self, ht, -⟩ := tag_ends L t n hr
      have hg := tg_len L hb
      have hbp : 1 ≤ begT L := Nat.pos_of_ne_zero hb
      obtain ⟨c0, t0, hn0, hc0⟩ := tgN_head L hb
      have hN : NmS ⟨(tellN (tgN L)).toArray⟩ := nmS_of _ (by rw [hn0]; exact name_first c0 t0 hc0) (name_bytes _ (tgN_all L))
      have hlen : (tellN (tgN L)).length ≤ 3 * S.size := by
        have := (cleanL_len (lowL (tgN L))).2
        rw [lowL_len] at this
        unfold tellN
        omega
      refine .inr ⟨k + n, decide (begT L = 2), tellN (tgN L), t.attrs, t.self, ?_, by omega, by omega, ?_, ?_, ?_, ?_, hN, hlen⟩
      · rw [tag_some S.data.toList k (by rw [hL]; exact hb) t n (by rw [hL]; exact hr), ht]
        obtain ⟨c, z, hc, ⟨-, h1, -⟩ | ⟨-, h1⟩⟩ := beg_cases L hb
        · rw [h1]; rfl
        · rw [h1]; rfl
      · have := hget 0
        rw [Nat.add_zero] at this
        rw [this]
        obtain ⟨c, z, hc, ⟨h1, -, -⟩ | ⟨h1, -⟩⟩ := beg_cases L hb <;> (rw [h1]; rfl)
      · rw [show k + n - 1 = k + (n - 1) by omega, hget]; exact e3
      · rw [hget]
        obtain ⟨c, z, hc, ⟨h1, h2, h3⟩ | ⟨h1, h2⟩⟩ := beg_cases L hb
        · rw [h2, h1]; exact ⟨fun e => (h3 e).elim, fun e => absurd e (by decide)⟩
        · rw [h2, h1]; exact ⟨fun _ => rfl, fun _ => rfl⟩
      · intro he
        have he := of_decide_eq_true he
        rw [ht, he]; exact ⟨rfl, rfl⟩
  · exact .inl ⟨_, (tag_out S.data.toList k (fun h => hb (by have := h.2; rwa [show ((k : Nat) : Int).toNat = k by omega, hL] at this))).1, .inl ⟨rfl, by rw [beg_in, hL]; exact decide_eq_false hb⟩⟩
set_option maxRecDepth 100000 in
set_option maxHeartbeats 8000000 in
theorem walk (a0 : ByteArray) (a1 : Int) (w0 : a0.size ≤ maxLen) (w1 : (Lit.int .u16 a1).wf = true) (w : World) (hT : LaidAt w) :
    Calls Tryd.prog 3 #[.string a0, .int .u16 a1] w fun e w' => e = .returned (.bool true) ∧ Below w.heap.size w w' := by
  have hb : 0 ≤ a1 ∧ a1 ≤ 65535 := by simpa [Lit.wf, IntKind.min, IntKind.max, IntKind.signed, IntKind.bits] using w1
  obtain ⟨hb0, hb1⟩ := hb
  clear w0 w1
  have HW := Lib.hid hT
  clear hT
  by_cases hlen : 300 < a0.size ∨ a0.size = 0
  · have hc : decide ((300 : Int) < (a0.size : Int)) = true ∨ decide ((300 : Int) < (a0.size : Int)) = false ∧ ((a0.size : Int) == 0) = true := by
      simp only [decide_eq_true_eq, decide_eq_false_iff_not, beq_iff_eq]; omega
    clear hlen
    rcases hc with hc | ⟨hc, hd⟩
    all_goals
      go_enter Tryd.func3, Tryd.ntmps3
      go_wp2_with (fail)
      refine (tagAwake_any w HW.out).mono ?_
      rintro e w1 ⟨rfl, c1⟩
      go_wp2
      go_ret
      exact ⟨rfl, c1⟩
  have hs : a0.size ≤ 300 := by omega
  have hs0 : 0 < a0.size := by omega
  have d0 : decide ((300 : Int) < (a0.size : Int)) = false := decide_eq_false (by omega)
  have d1 : ((a0.size : Int) == 0) = false := by rw [beq_eq_false_iff_ne]; omega
  have hk0 : 0 ≤ a1 % (a0.size : Int) := Int.emod_nonneg _ (by omega)
  have hk1 : a1 % (a0.size : Int) < (a0.size : Int) := Int.emod_lt_of_pos _ (by omega)
  obtain ⟨k, hk⟩ : ∃ k : Nat, a1 % (a0.size : Int) = k := ⟨(a1 % (a0.size : Int)).toNat, by omega⟩
  have HK := Lib.hid hk
  have hks : k < a0.size := by omega
  clear hlen hk hk0 hk1
  have HR1 := fun w h => Lib.hid (tag_any a0 (k : Int) w (by omega) (by omega) h)
  have HR2 := fun w h => Lib.hid (tagBegins_any a0 (k : Int) w (by omega) (by omega) h)
  rcases names_told a0 k hks with ⟨n, hv1, hv2⟩ | ⟨n, e, nm, l, se, hv1, f1, f2, f3, f4, f5, f6, f7, f8⟩
  · have HV1 := Lib.hid hv1
    have HV2 := Lib.hid hv2
    clear hv1 hv2
    go_enter Tryd.func3, Tryd.ntmps3
    go_wp2_with (fail)
    refine (tagAwake_any w HW.out).mono ?_
    rintro e w1 ⟨rfl, c1⟩
    go_wp2_with (fail)
    rw [HK.out]
    refine (HR1 _ (HW.out.below c1)).out.mono ?_
    rintro e w2 ⟨t, ad, len, cap, n', ok', rfl, hr, hv, b2⟩
    rw [HV1.out] at hv
    simp only [Prod.mk.injEq] at hv
    obtain ⟨rfl, rfl, rfl⟩ := hv
    have C2 := Lib.hid (c1.trans (b2.mono c1.size))
    have K2 := Lib.hid hr
    clear hr b2
    unfold tokA
    go_wp2_with (fail)
    refine (refSame9_any zeroT zeroT _ _ _ _ _ _ _ (K2.out.below ((Below.refl _ w2).alloc (Nat.le_refl _) _) (Nat.le_refl _)) (isRows_none _)).mono ?_
    rintro e w3 ⟨rfl, b3⟩
    have D3 := Lib.hid (((Below.refl w2.heap.size w2).alloc (Nat.le_refl _) _).trans (b3.mono (by simp)))
    have C3 := Lib.hid (C2.out.trans (D3.out.mono C2.out.size))
    rcases HV2.out with ⟨hn, hbv⟩ | ⟨hn, hbv⟩
    · rw [hbv] at HR2
      subst hn
      have hne : ((k : Int) == (a0.size : Int)) = false := by rw [beq_eq_false_iff_ne]; omega
      go_wp2_with (fail)
      refine (HR2 _ (HW.out.below C3.out)).out.mono ?_
      rintro e w4 ⟨rfl, b4⟩
      go_wp2
      go_ret
      exact ⟨ret_bool (by simp), C3.out.trans (b4.mono C3.out.size)⟩
    · rw [hbv] at HR2
      subst hn
      go_wp2_with (fail)
      refine (HR2 _ (HW.out.below C3.out)).out.mono ?_
      rintro e w4 ⟨rfl, b4⟩
      go_wp2
      go_ret
      exact ⟨ret_bool (by simp), C3.out.trans (b4.mono C3.out.size)⟩
  have HV1 := Lib.hid hv1
  clear hv1 HR2
  obtain ⟨N, hN⟩ : ∃ N : ByteArray, ⟨nm.toArray⟩ = N := ⟨_, rfl⟩
  have hNs : N.size ≤ 900 := by rw [← hN, Lib.size_eq, List.toList_toArray]; omega
  rw [hN] at f7
  obtain ⟨g1, g2, g3, g4⟩ := f7
  obtain ⟨g5, g6⟩ := g3 g1
  have p97 : (97 : Int) ≤ ((N[0].toNat : Nat) : Int) := by omega
  have p122 : ((N[0].toNat : Nat) : Int) ≤ 122 := by omega
  have HB := Lib.hid g4
  have HN := Lib.hid hN
  obtain ⟨j, hj⟩ : ∃ j : Nat, (n : Int) - 1 = (j : Int) := ⟨n - 1, by omega⟩
  have hj1 : j < a0.size := by omega
  have b60 : (((a0[k].toNat : Nat) : Int) != 60) = false := byte_ne _ 60 (by decide) (at_byte a0 k 60 hks f3)
  have b62 : (((a0[j].toNat : Nat) : Int) != 62) = false := byte_ne _ 62 (by decide) (at_byte a0 j 62 hj1 (by rw [← f4]; congr 1; omega))
  have hk1 : k + 1 < a0.size := by omega
  have p1 : (k : Int) + 2 < (n : Int) := by omega
  have p2 : (n : Int) ≤ (a0.size : Int) := by omega
  have p3 : (1 : Int) ≤ (n : Int) := by omega
  clear f3 f4 g3 g4 g5 g6 hN f8
  cases e
  · have b47 : (((a0[k + 1].toNat : Nat) : Int) == 47) = false := by
      rw [beq_eq_false_iff_ne]; intro h; exact absurd (f5.1 (by rw [getD_is a0 (k + 1) hk1]; exact u8_eq _ 47 (by decide) h)) (by decide)
    clear f5 f6
    go_enter Tryd.func3, Tryd.ntmps3
    go_wp2_with (fail)
    refine (tagAwake_any w HW.out).mono ?_
    rintro e w1 ⟨rfl, c1⟩
    go_wp2_with (fail)
    rw [HK.out]
    refine (HR1 _ (HW.out.below c1)).out.mono ?_
    rintro e w2 ⟨t, ad, len, cap, n', ok', rfl, hr, hv, b2⟩
    rw [HV1.out] at hv
    simp only [Prod.mk.injEq] at hv
    obtain ⟨rfl, rfl, rfl⟩ := hv
    have C2 := Lib.hid (c1.trans (b2.mono c1.size))
    have K2 := Lib.hid hr
    have el := hr.1
    clear hr b2 c1
    unfold tokA
    simp only [HN.out, Bool.false_eq_true, if_false] at el ⊢
    go_wp2_with (fail)
    have Y := tokAt_new w2 ⟨1, nm, [], l, se⟩ ad len cap 26
    have C3 := Lib.hid (below_new C2.out (.cells #[.int .i64 1, .string N, .string ⟨#[]⟩, .slice ad len cap, .bool se] 26))
    unfold TokAt at Y
    simp only [HN.out] at Y
    obtain ⟨W, hW⟩ : ∃ W, w2.alloc (.cells #[.int .i64 1, .string N, .string ⟨#[]⟩, .slice ad len cap, .bool se] 26) = W := ⟨_, rfl⟩
    rw [hW] at C3 Y ⊢
    obtain ⟨y0, y1, y2, y3, y4⟩ := Y
    clear hW
    go_loopw [10] (fun v wr => ∃ m : Nat, v = .int .i64 (m : Int) ∧ W = wr ∧ m ≤ N.size) (fun v _ => N.size - (intOf v).toNat)
    case atStart => exact ⟨0, rfl, rfl, Nat.zero_le _⟩
    case round =>
      obtain ⟨m, rfl, rfl, hmm⟩ := hrel
      by_cases hm : m < N.size
      · obtain ⟨q1, q2, q3, q4, q5, q6, q7, q8⟩ := HB.out m hm
        have b32 : (((N[m].toNat : Nat) : Int) == 32) = false := beq_eq_false_iff_ne.2 (by omega)
        have b10 : (((N[m].toNat : Nat) : Int) == 10) = false := beq_eq_false_iff_ne.2 (by omega)
        have b9 : (((N[m].toNat : Nat) : Int) == 9) = false := beq_eq_false_iff_ne.2 (by omega)
        have b12 : (((N[m].toNat : Nat) : Int) == 12) = false := beq_eq_false_iff_ne.2 (by omega)
        have b47' : (((N[m].toNat : Nat) : Int) == 47) = false := beq_eq_false_iff_ne.2 (by omega)
        have b62' : (((N[m].toNat : Nat) : Int) == 62) = false := beq_eq_false_iff_ne.2 (by omega)
        have b0 : (((N[m].toNat : Nat) : Int) == 0) = false := beq_eq_false_iff_ne.2 (by omega)
        by_cases h65 : N[m].toNat < 65
        · have b65 : ((N[m].toNat : Nat) : Int) < 65 := by omega
          clear q1 q2 q3 q4 q5 q6 q7 q8 h65
          go_wp2
          go_roundw
          case rel => first | exact ⟨m + 1, by simp, trivial, by omega⟩ | exact ⟨m + 1, by simp, by omega⟩
          case measure => simp [intOf]; omega
        · have b65 : (65 : Int) ≤ ((N[m].toNat : Nat) : Int) := by omega
          have b90 : (90 : Int) < ((N[m].toNat : Nat) : Int) := by omega
          clear q1 q2 q3 q4 q5 q6 q7 q8 h65
          go_wp2
          go_roundw
          case rel => first | exact ⟨m + 1, by simp, trivial, by omega⟩ | exact ⟨m + 1, by simp, by omega⟩
          case measure => simp [intOf]; omega
      · go_wp2
        go_ret
        exact ⟨ret_bool (by simp), C3.out⟩
  · have b47 : (((a0[k + 1].toNat : Nat) : Int) == 47) = true := by
      rw [beq_iff_eq, at_byte a0 (k + 1) 47 hk1 (f5.2 rfl)]; rfl
    obtain ⟨rfl, rfl⟩ := f6 rfl
    clear f5 f6
    go_enter Tryd.func3, Tryd.ntmps3
    go_wp2_with (fail)
    refine (tagAwake_any w HW.out).mono ?_
    rintro e w1 ⟨rfl, c1⟩
    go_wp2_with (fail)
    rw [HK.out]
    refine (HR1 _ (HW.out.below c1)).out.mono ?_
    rintro e w2 ⟨t, ad, len, cap, n', ok', rfl, hr, hv, b2⟩
    rw [HV1.out] at hv
    simp only [Prod.mk.injEq] at hv
    obtain ⟨rfl, rfl, rfl⟩ := hv
    have C2 := Lib.hid (c1.trans (b2.mono c1.size))
    have K2 := Lib.hid hr
    have el := hr.1
    clear hr b2 c1
    unfold tokA
    simp only [HN.out, if_true] at el ⊢
    obtain rfl : len = 0 := el.symm
    go_wp2_with (fail)
    have Y := tokAt_new w2 ⟨2, nm, [], [], false⟩ ad 0 cap 26
    have C3 := Lib.hid (below_new C2.out (.cells #[.int .i64 2, .string N, .string ⟨#[]⟩, .slice ad 0 cap, .bool false] 26))
    unfold TokAt at Y
    simp only [HN.out] at Y
    obtain ⟨W, hW⟩ : ∃ W, w2.alloc (.cells #[.int .i64 2, .string N, .string ⟨#[]⟩, .slice ad 0 cap, .bool false] 26) = W := ⟨_, rfl⟩
    rw [hW] at C3 Y ⊢
    obtain ⟨y0, y1, y2, y3, y4⟩ := Y
    clear hW
    go_loopw [10] (fun v wr => ∃ m : Nat, v = .int .i64 (m : Int) ∧ W = wr ∧ m ≤ N.size) (fun v _ => N.size - (intOf v).toNat)
    case atStart => exact ⟨0, rfl, rfl, Nat.zero_le _⟩
    case round =>
      obtain ⟨m, rfl, rfl, hmm⟩ := hrel
      by_cases hm : m < N.size
      · obtain ⟨q1, q2, q3, q4, q5, q6, q7, q8⟩ := HB.out m hm
        have b32 : (((N[m].toNat : Nat) : Int) == 32) = false := beq_eq_false_iff_ne.2 (by omega)
        have b10 : (((N[m].toNat : Nat) : Int) == 10) = false := beq_eq_false_iff_ne.2 (by omega)
        have b9 : (((N[m].toNat : Nat) : Int) == 9) = false := beq_eq_false_iff_ne.2 (by omega)
        have b12 : (((N[m].toNat : Nat) : Int) == 12) = false := beq_eq_false_iff_ne.2 (by omega)
        have b47' : (((N[m].toNat : Nat) : Int) == 47) = false := beq_eq_false_iff_ne.2 (by omega)
        have b62' : (((N[m].toNat : Nat) : Int) == 62) = false := beq_eq_false_iff_ne.2 (by omega)
        have b0 : (((N[m].toNat : Nat) : Int) == 0) = false := beq_eq_false_iff_ne.2 (by omega)
        by_cases h65 : N[m].toNat < 65
        · have b65 : ((N[m].toNat : Nat) : Int) < 65 := by omega
          clear q1 q2 q3 q4 q5 q6 q7 q8 h65
          go_wp2
          go_roundw
          case rel => first | exact ⟨m + 1, by simp, trivial, by omega⟩ | exact ⟨m + 1, by simp, by omega⟩
          case measure => simp [intOf]; omega
        · have b65 : (65 : Int) ≤ ((N[m].toNat : Nat) : Int) := by omega
          have b90 : (90 : Int) < ((N[m].toNat : Nat) : Int) := by omega
          clear q1 q2 q3 q4 q5 q6 q7 q8 h65
          go_wp2
          go_roundw
          case rel => first | exact ⟨m + 1, by simp, trivial, by omega⟩ | exact ⟨m + 1, by simp, by omega⟩
          case measure => simp [intOf]; omega
      · go_wp2
        go_ret
        exact ⟨ret_bool (by simp), C3.out⟩
  -- go_wp2
  -- go_ret
  -- exact ⟨rfl, by repeat (first | exact Grown.refl _ | apply Grown.drew | apply Grown.alloc)⟩

theorem laid_met (os : Os) : laidMet Tryd.prog Rows.tagNamesRow.laid ((laidWorld os).forCall (fun _ _ => 0) ⟨#[], #[.string ByteArray.empty, .int .u16 0], []⟩).memory :=
  laidMet_of_run' 8 (by kernel_rfl) (by kernel_rfl)
theorem reads (os : Os) {H : Type} (enc : TypeId × Value → H) : ∃ places, DataW.whole enc Tryd.prog ((laidWorld os).forCall (fun _ _ => 0) ⟨#[], #[.string ByteArray.empty, .int .u16 0], []⟩).memory Tryd.f3.params.toList Rows.tagNamesSpec.vars false (#[.string ByteArray.empty, .int .u16 0] : Array Value).toList 8 = some ([.lit (.string []), .lit (.int .u16 0)], [], places) :=
  ⟨[], by kernel_rfl⟩
set_option maxRecDepth 100000 in
theorem lifted (os : Os) (started : os.Started) (H : Type) (enc : TypeId × Value → H) (F : Stop.Interp) :
    ReturnsInHanded {} Tryd.checked os 3 .any ((OpenSpec.ofChange Rows.tagNamesSpec).preRow enc Tryd.prog Tryd.f3 Rows.tagNamesRow.domain false Rows.tagNamesRow.laid) (((OpenSpec.ofChange Rows.tagNamesSpec).at F).post enc Tryd.prog Tryd.f3 false true false false) := by
  obtain ⟨places, hx⟩ := reads os enc
  refine returnsInHanded_of_row (C := Tryd.checked) (s := OpenSpec.ofChange Rows.tagNamesSpec) own started (by kernel_rfl) Tryd.func3
    (witness_row_at (enc := enc) (C := Tryd.checked) false (laidWorld os) #[.string ByteArray.empty, .int .u16 0] rfl (by kernel_rfl) (by kernel_rfl) (by kernel_rfl)
      (OpenSpec.preRow_of_cond 8 hx (by kernel_rfl) (fun k hk => by cases hk) (by kernel_rfl) (laid_met os))) ?_
  intro W base args ds gs before hval0 hW _ _ _ hL _ _
  have hval : ∀ (j : Nat) t v, Tryd.f3.params[j]? = some t → args[j]? = some v → Value.okWide Tryd.prog W .any base t v := hval0
  have hW' := hW
  obtain ⟨p, q, hA0, hV, rfl, hfz, hnd⟩ := hW
  have hA : DataW.TrodAll enc Tryd.prog W 0 (fun _ => true) true Tryd.f3.params.toList args.toList ds p := hA0
  rw [Tryd.params3] at hA hval
  obtain ⟨v0, vs0, d0, ds0, p0, q0, hargs, rfl, rfl, h0, r0⟩ := trodAll_cons hA
  obtain ⟨v1, vs1, d1, ds1, p1, q1, rfl, rfl, rfl, h1, r1⟩ := trodAll_cons r0
  obtain ⟨rfl, rfl, rfl⟩ := trodAll_nil r1
  obtain rfl : args = #[v0, v1] := by cases args; simp_all
  obtain ⟨rfl, rfl⟩ := trodVars_none hV
  obtain ⟨a0, rfl, rfl, rfl, w0⟩ := open_string Tryd.underlying9 (hval 0 9 v0 rfl rfl) h0
  obtain ⟨a1, rfl, rfl, rfl, w1⟩ := open_int Tryd.underlying22 (hval 1 22 v1 rfl rfl) h1
  clear hA0 hval0
  refine (walk a0 a1 w0 w1 W (tabAt_of hL)).mono fun e W' ⟨he, bel⟩ => ?_
  subst he
  exact ⟨_, rfl, _, _, _, [], _, [], hW', trodAll_mk1 (shut_bool Tryd.underlying4 _), (trodAll_cons_mk (shut_string Tryd.underlying9 w0) (trodAll_cons_mk (shut_int Tryd.underlying22 w1) trodAll_mk0)), rfl, bel.frame _, fun h => by cases h⟩

theorem said : Rows.TagNamesSaid :=
  OpenClaim.holds_of_cond 3 Tryd.f3 rfl rfl rfl rfl rfl rfl rfl ⟨rfl, rfl, rfl, rfl, rfl⟩ rfl rfl rfl rfl rfl (by kernel_rfl) Tryd.func3 (by kernel_rfl)
    (of_decide_eq_true (by kernel_rfl)) (by unfold Func.isWrapper; first | (rw [if_pos (by decide +kernel)]; kernel_rfl) | (rw [if_neg (by decide +kernel)]; exact ⟨rfl, rfl⟩))
    (fun os started H enc _ F => by rw [OpenClaim.pre_eq_preRow]; exact lifted os started H enc F)
theorem plain (f : FuncId) (fn : Func) (hf : Tryd.pinned.checked.prog.funcNamed "flail/flaillaw09.TagNames" = some f) (hfn : Tryd.pinned.checked.prog.funcs[f]? = some fn) :
    true = Tryd.pinned.checked.prog.looks [] ∧ ∀ (j : Nat) t, fn.params[j]? = some t → Tryd.pinned.checked.prog.wantsStandIn t = false := by
  obtain rfl : f = 3 := Option.some.inj ((show Tryd.prog.funcNamed "flail/flaillaw09.TagNames" = some 3 by kernel_rfl).symm.trans hf) |>.symm
  obtain rfl : fn = Tryd.f3 := (Option.some.inj (Tryd.func3.symm.trans hfn)).symm
  refine ⟨by kernel_rfl, fun j t ht => ?_⟩
  rw [Tryd.params3] at ht
  have hm : t ∈ [9, 22] := by simpa using Array.mem_of_getElem? ht
  have hall : ([9, 22].all fun u => !Tryd.prog.wantsStandIn u) = true := by kernel_rfl
  exact (show Tryd.prog.wantsStandIn t = false by simpa using List.all_eq_true.1 hall t hm)
/-- the statement: the row's card -/
theorem proved : Rows.TagNamesCardSaid :=
  Claim7.holds_tied_plain_at .later [] _ _ _ _ said (fun _ h => by cases h) (by kernel_rfl) (fun _ h => by cases h) tagNames_row_tie rfl ⟨rfl, rfl⟩ (by kernel_rfl) rfl plain (by kernel_rfl)
end Go.Proofs.YtdgebenkhcaijaaDoor.tagNames
