/-
  What the document's Read of layer 8 answers, for every text and place.
-/
import Derived.Test.YtpdmnnfbdeiejaaGreatDoorAttAdd
namespace Go.Proofs.YtpdmnnfbdeiejaaGreatDoor
open Go.RowKit Go.Lib

theorem at_more {s : ByteArray} {i : Nat} (h : i < s.size) {a a' : At} {T : Option Told} (hg : goA a s[i] (s.data.toList.drop (i + 1)) = .more a') (hT : runI i a (s.data.toList.drop i) = T) : runI (i + 1) a' (s.data.toList.drop (i + 1)) = T := by
  rw [drop_at s i h] at hT; exact runI_more hg hT
theorem at_done {s : ByteArray} {i : Nat} (h : i < s.size) {a : At} {l : List Ln} {self : Bool} {n : Nat} {T : Option Told} (hg : goA a s[i] (s.data.toList.drop (i + 1)) = .done l self n) (hT : runI i a (s.data.toList.drop i) = T) : T = some (l, self, i + n) := by
  rw [drop_at s i h] at hT; exact runI_done hg hT
theorem at_same {s : ByteArray} {i : Nat} (h : i < s.size) {a b : At} {T : Option Told} (hg : goA a s[i] (s.data.toList.drop (i + 1)) = goA b s[i] (s.data.toList.drop (i + 1))) (hT : runI i a (s.data.toList.drop i) = T) : runI i b (s.data.toList.drop i) = T := by
  rw [drop_at s i h] at hT ⊢; exact runI_same hg hT
theorem at_end {s : ByteArray} {i : Nat} (h : ¬ i < s.size) {a : At} {T : Option Told} (hT : runI i a (s.data.toList.drop i) = T) : T = none := by
  rw [List.drop_eq_nil_of_le (by rw [← Lib.size_eq]; omega)] at hT; exact runI_nil hT
theorem head_next (s : ByteArray) (i : Nat) : (s.data.toList.drop (i + 1)).head? = if h : i + 1 < s.size then some s[i + 1] else none := by
  by_cases h : i + 1 < s.size
  · rw [dif_pos h, drop_at s (i + 1) h]; rfl
  · rw [dif_neg h, List.drop_eq_nil_of_le (by rw [← Lib.size_eq]; omega)]; rfl
theorem add_one (s : ByteArray) (i : Nat) (h : i < s.size) (N : ByteArray) : (N ++ s.extract i (i + 1)).data.toList = N.data.toList ++ [s[i]] := by
  rw [ByteArray.data_append, Array.toList_append, extract_one s i h]
theorem results_tmp4 {fn : Func} {t u v x : Tmp} (h : fn.results = #[.tmp t, .tmp u, .tmp v, .tmp x]) (tmps : Array Value) (P : Program) (w : World) :
    (results fn tmps).run P w = .ok (.tuple #[tmps.getD t undef, tmps.getD u undef, tmps.getD v undef, tmps.getD x undef]) w := by
  simp [results, h]
theorem isRows_none (w : World) : IsRows w none 0 0 [] := ⟨rfl, Nat.le_refl _, by simp [maxLen], fun i h => by cases h⟩
/-- what Read answers: attributes, whether the tag closes itself, where it ends, whether it does -/
def TellP (s : ByteArray) (a : Int) (w : World) (e : Ending) (w' : World) : Prop :=
  ∃ ad len cap l self n ok, e = .returned (.tuple #[.slice ad len cap, .bool self, .int .i64 n, .bool ok]) ∧ IsRows w' ad len cap l ∧ attrsV s.data.toList a = (l, self, n, ok) ∧ Below w.heap.size w w'
/-- how far a state is from one that takes a byte -/
def rankI (k : Int) : Nat := if k = 1 ∨ k = 3 then 2 else if k = 2 ∨ k = 5 then 1 else 0

set_option maxRecDepth 100000 in
set_option maxHeartbeats 16000000 in
/-- P8.1, the document's answer -/
theorem refAttrs_any (s : ByteArray) (a : Int) (w : World) (hs : s.size ≤ 1048576) (ha : -9223372036854775808 ≤ a ∧ a ≤ 9223372036854775807) :
    Calls Tryz.prog 6 #[.string s, .int .i64 a] w (TellP s a w) := by
  by_cases h0 : a < 0
  · have HV := Lib.hid (attrs_out s.data.toList a (by omega))
    go_enter Tryz.func6, Tryz.ntmps6
    go_wp2
    try simp only [Exit.inBlock, Exit.then]
    refine bodyPost_ret (results_tmp4 rfl _ _ _) rfl ?_
    exact ⟨_, _, _, _, _, _, _, rfl, isRows_none _, HV.out, Below.refl _ _⟩
  by_cases h1 : (s.size : Int) < a
  · have HV := Lib.hid (attrs_out s.data.toList a (by rw [← Lib.size_eq]; omega))
    go_enter Tryz.func6, Tryz.ntmps6
    go_wp2
    try simp only [Exit.inBlock, Exit.then]
    refine bodyPost_ret (results_tmp4 rfl _ _ _) rfl ?_
    exact ⟨_, _, _, _, _, _, _, rfl, isRows_none _, HV.out, Below.refl _ _⟩
  obtain ⟨k, rfl⟩ : ∃ k : Nat, a = k := ⟨a.toNat, by omega⟩
  have hk : k ≤ s.size := by omega
  have HV0 := Lib.hid (fun h => attrs_none s.data.toList k (by rw [← Lib.size_eq]; exact hk) h)
  have HV1 := Lib.hid (fun l self n h => attrs_some s.data.toList k (by rw [← Lib.size_eq]; exact hk) l self n h)
  obtain ⟨T, hT⟩ : ∃ T, runI k (.s0 []) (s.data.toList.drop k) = T := ⟨_, rfl⟩
  rw [hT] at HV0 HV1
  have HT := Lib.hid hT
  clear hT h0 h1 ha
  have d0 : decide ((k : Int) < 0) = false := decide_eq_false (by omega)
  have d1 : decide (s.size < k) = false := decide_eq_false (by omega)
  go_enter Tryz.func6, Tryz.ntmps6
  go_wp2
  clear d0 d1
  go_loopw [8, 9, 10, 11, 12, 13] (fun v8 v9 v10 v11 v12 v13 wr => ∃ (i : Nat) (N V : ByteArray) (q : UInt8) (l : List Ln), v10 = .string N ∧ v11 = .string V ∧ v12 = .int .u8 (q.toNat : Int) ∧ v13 = .int .i64 (i : Int) ∧ Below w.heap.size w wr ∧ i ≤ s.size ∧ N.size ≤ i ∧ V.size ≤ i ∧ wr.ownsRow w.heap.size 29 2 v8 l.length (cellsR l) ∧ l.length ≤ i ∧
      (v9 = .int .i64 0 ∧ runI i (.s0 l) (s.data.toList.drop i) = T ∨ v9 = .int .i64 1 ∧ runI i (.s1 l N.data.toList) (s.data.toList.drop i) = T ∧ l.length + 1 ≤ i ∨ v9 = .int .i64 2 ∧ runI i (.s2 l N.data.toList) (s.data.toList.drop i) = T ∧ l.length + 1 ≤ i ∨ v9 = .int .i64 3 ∧ runI i (.s3 l N.data.toList) (s.data.toList.drop i) = T ∧ l.length + 1 ≤ i ∨ v9 = .int .i64 4 ∧ runI i (.s4 l N.data.toList V.data.toList q) (s.data.toList.drop i) = T ∧ l.length + 1 ≤ i ∨ v9 = .int .i64 5 ∧ runI i (.s5 l N.data.toList V.data.toList) (s.data.toList.drop i) = T ∧ l.length + 1 ≤ i))
    (fun _ v9 _ _ _ v13 _ => 3 * (s.size - (intOf v13).toNat) + rankI (intOf v9))
  case atStart => exact ⟨k, ⟨#[]⟩, ⟨#[]⟩, 0, [], rfl, rfl, rfl, rfl, Below.refl _ _, hk, Nat.zero_le _, Nat.zero_le _, World.ownsRow_nil _ _ _ _, Nat.zero_le _, .inl ⟨rfl, HT.out⟩⟩
  case round =>
    obtain ⟨i, N, V, q, l, rfl, rfl, rfl, rfl, hbw, hi, hN, hV, hown, hl, hst⟩ := hrel
    have hsz := hbw.size
    have HO := Lib.hid hown
    clear hown HT
    by_cases hlt : i < s.size
    · have HSp := fun w => Lib.hid (refSpace ((s[i].toNat : Nat) : Int) w)
      have hsp0 : spB s[i] = spaceI ((s[i].toNat : Nat) : Int) := rfl
      obtain ⟨sp, hsp⟩ : ∃ sp, spaceI ((s[i].toNat : Nat) : Int) = sp := ⟨_, rfl⟩
      rw [hsp] at HSp hsp0
      have HSP := Lib.hid hsp0
      clear hsp hsp0
      rcases hst with ⟨rfl, hT⟩ | ⟨rfl, hT, hl1⟩ | ⟨rfl, hT, hl1⟩ | ⟨rfl, hT, hl1⟩ | ⟨rfl, hT, hl1⟩ | ⟨rfl, hT, hl1⟩
      · cases sp
        · by_cases h62 : ((s[i].toNat : Nat) : Int) = 62
          · have HK := Lib.hid (at_done hlt (go0_end (u8_eq _ 62 (by decide) h62)) hT)
            clear hT
            have b62 : (((s[i].toNat : Nat) : Int) == 62) = true := beq_iff_eq.2 h62
            clear h62
            obtain ⟨ad, cap, rfl, hrows⟩ := isRows_own l HO.out
            have HRO := Lib.hid hrows
            have HV := Lib.hid (HV1.out _ _ _ HK.out)
            clear hrows HO
            go_wp2_with (go_at_call 13; refine (HSp _).out.mono ?_; rintro e w' ⟨rfl, rfl⟩)
            try simp only [Exit.inBlock, Exit.then]
            refine bodyPost_ret (results_tmp4 rfl _ _ _) rfl ?_
            exact ⟨_, _, _, _, _, _, _, rfl, HRO.out, HV.out, hbw⟩
          · by_cases h47 : ((s[i].toNat : Nat) : Int) = 47
            · by_cases hn : i + 1 < s.size
              · by_cases hx : ((s[i + 1].toNat : Nat) : Int) = 62
                · have HK := Lib.hid (at_done hlt (go0_self (u8_eq _ 47 (by decide) h47) (by rw [head_next, dif_pos hn]; exact congrArg some (u8_eq _ 62 (by decide) hx))) hT)
                  clear hT
                  have b62 : (((s[i].toNat : Nat) : Int) == 62) = false := beq_eq_false_iff_ne.2 h62
                  have b47 : (((s[i].toNat : Nat) : Int) == 47) = true := beq_iff_eq.2 h47
                  have bx : (((s[i + 1].toNat : Nat) : Int) == 62) = true := beq_iff_eq.2 hx
                  clear h62 h47 hx
                  obtain ⟨ad, cap, rfl, hrows⟩ := isRows_own l HO.out
                  have HRO := Lib.hid hrows
                  have HV := Lib.hid (HV1.out _ _ _ HK.out)
                  clear hrows HO
                  go_wp2_with (go_at_call 13; refine (HSp _).out.mono ?_; rintro e w' ⟨rfl, rfl⟩)
                  try simp only [Exit.inBlock, Exit.then]
                  refine bodyPost_ret (results_tmp4 rfl _ _ _) rfl ?_
                  exact ⟨_, _, _, _, _, _, _, rfl, HRO.out, HV.out, hbw⟩
                · have HK := Lib.hid (at_more hlt (go0_stroke (u8_eq _ 47 (by decide) h47) (by rw [head_next, dif_pos hn]; exact fun e => u8_ne _ 62 (by decide) hx (Option.some.inj e))) hT)
                  clear hT
                  have b62 : (((s[i].toNat : Nat) : Int) == 62) = false := beq_eq_false_iff_ne.2 h62
                  have b47 : (((s[i].toNat : Nat) : Int) == 47) = true := beq_iff_eq.2 h47
                  have bx : (((s[i + 1].toNat : Nat) : Int) == 62) = false := beq_eq_false_iff_ne.2 hx
                  clear h62 h47 hx
                  go_wp2_with (go_at_call 13; refine (HSp _).out.mono ?_; rintro e w' ⟨rfl, rfl⟩)
                  go_roundw
                  case rel => exact ⟨i + 1, N, V, q, l, rfl, rfl, rfl, by simp, hbw, by omega, by omega, by omega, HO.out, by omega, .inl ⟨rfl, HK.out⟩⟩
                  case measure => simp [intOf, rankI]; try omega
              · have HK := Lib.hid (at_more hlt (go0_stroke (u8_eq _ 47 (by decide) h47) (by rw [head_next, dif_neg hn]; exact fun e => by cases e)) hT)
                clear hT
                have b62 : (((s[i].toNat : Nat) : Int) == 62) = false := beq_eq_false_iff_ne.2 h62
                have b47 : (((s[i].toNat : Nat) : Int) == 47) = true := beq_iff_eq.2 h47
                have bx : decide ((i : Int) + 1 < (s.size : Int)) = false := decide_eq_false (by omega)
                clear h62 h47 hn
                go_wp2_with (go_at_call 13; refine (HSp _).out.mono ?_; rintro e w' ⟨rfl, rfl⟩)
                go_roundw
                case rel => exact ⟨i + 1, N, V, q, l, rfl, rfl, rfl, by simp, hbw, by omega, by omega, by omega, HO.out, by omega, .inl ⟨rfl, HK.out⟩⟩
                case measure => simp [intOf, rankI]; try omega
            · have HK := Lib.hid (at_more hlt (go0_name HSP.out (u8_ne _ 62 (by decide) h62) (u8_ne _ 47 (by decide) h47)) hT)
              clear hT
              rw [← extract_one s i hlt] at HK
              have b62 : (((s[i].toNat : Nat) : Int) == 62) = false := beq_eq_false_iff_ne.2 h62
              have b47 : (((s[i].toNat : Nat) : Int) == 47) = false := beq_eq_false_iff_ne.2 h47
              clear h62 h47
              go_wp2_with (go_at_call 13; refine (HSp _).out.mono ?_; rintro e w' ⟨rfl, rfl⟩)
              go_roundw
              case rel => exact ⟨i + 1, s.extract i (i + 1), V, q, l, rfl, rfl, rfl, by simp, hbw, by omega, by rw [ByteArray.size_extract]; omega, by omega, HO.out, by omega, .inr (.inl ⟨rfl, HK.out, by omega⟩)⟩
              case measure => simp [intOf, rankI]; try omega
        · have HK := Lib.hid (at_more hlt (go0_space HSP.out) hT)
          clear hT
          go_wp2_with (go_at_call 13; refine (HSp _).out.mono ?_; rintro e w' ⟨rfl, rfl⟩)
          go_roundw
          case rel => exact ⟨i + 1, N, V, q, l, rfl, rfl, rfl, by simp, hbw, by omega, by omega, by omega, HO.out, by omega, .inl ⟨rfl, HK.out⟩⟩
          case measure => simp [intOf, rankI]; try omega
      · cases sp
        · by_cases h47 : ((s[i].toNat : Nat) : Int) = 47
          · have HK := Lib.hid (at_same hlt (go1_end (by unfold endB; rw [HSP.out, u8_eq _ 47 (by decide) h47]; rfl)) hT)
            clear hT
            have b47 : (((s[i].toNat : Nat) : Int) == 47) = true := beq_iff_eq.2 h47
            clear h47
            go_wp2_with (go_at_call 13; refine (HSp _).out.mono ?_; rintro e w' ⟨rfl, rfl⟩)
            go_roundw
            case rel => exact ⟨i, N, V, q, l, rfl, rfl, rfl, rfl, hbw, by omega, by omega, by omega, HO.out, by omega, .inr (.inr (.inl ⟨rfl, HK.out, by omega⟩))⟩
            case measure => simp [intOf, rankI]; try omega
          · by_cases h62 : ((s[i].toNat : Nat) : Int) = 62
            · have HK := Lib.hid (at_same hlt (go1_end (by unfold endB; rw [HSP.out, u8_eq _ 62 (by decide) h62]; rfl)) hT)
              clear hT
              have b47 : (((s[i].toNat : Nat) : Int) == 47) = false := beq_eq_false_iff_ne.2 h47
              have b62 : (((s[i].toNat : Nat) : Int) == 62) = true := beq_iff_eq.2 h62
              clear h47 h62
              go_wp2_with (go_at_call 13; refine (HSp _).out.mono ?_; rintro e w' ⟨rfl, rfl⟩)
              go_roundw
              case rel => exact ⟨i, N, V, q, l, rfl, rfl, rfl, rfl, hbw, by omega, by omega, by omega, HO.out, by omega, .inr (.inr (.inl ⟨rfl, HK.out, by omega⟩))⟩
              case measure => simp [intOf, rankI]; try omega
            · by_cases h61 : ((s[i].toNat : Nat) : Int) = 61
              · have HK := Lib.hid (at_same hlt (go1_end (by unfold endB; rw [HSP.out, u8_eq _ 61 (by decide) h61]; rfl)) hT)
                clear hT
                have b47 : (((s[i].toNat : Nat) : Int) == 47) = false := beq_eq_false_iff_ne.2 h47
                have b62 : (((s[i].toNat : Nat) : Int) == 62) = false := beq_eq_false_iff_ne.2 h62
                have b61 : (((s[i].toNat : Nat) : Int) == 61) = true := beq_iff_eq.2 h61
                clear h47 h62 h61
                go_wp2_with (go_at_call 13; refine (HSp _).out.mono ?_; rintro e w' ⟨rfl, rfl⟩)
                go_roundw
                case rel => exact ⟨i, N, V, q, l, rfl, rfl, rfl, rfl, hbw, by omega, by omega, by omega, HO.out, by omega, .inr (.inr (.inl ⟨rfl, HK.out, by omega⟩))⟩
                case measure => simp [intOf, rankI]; try omega
              · have e47 : (s[i] == 47) = false := beq_eq_false_iff_ne.2 (u8_ne _ 47 (by decide) h47)
                have e62 : (s[i] == 62) = false := beq_eq_false_iff_ne.2 (u8_ne _ 62 (by decide) h62)
                have e61 : (s[i] == 61) = false := beq_eq_false_iff_ne.2 (u8_ne _ 61 (by decide) h61)
                have he : endB s[i] = false := by unfold endB; rw [HSP.out, e47, e62, e61]; rfl
                clear e47 e62 e61
                have HK := Lib.hid (at_more hlt (go1_more he) hT)
                clear hT
                rw [← add_one s i hlt N] at HK
                have b47 : (((s[i].toNat : Nat) : Int) == 47) = false := beq_eq_false_iff_ne.2 h47
                have b62 : (((s[i].toNat : Nat) : Int) == 62) = false := beq_eq_false_iff_ne.2 h62
                have b61 : (((s[i].toNat : Nat) : Int) == 61) = false := beq_eq_false_iff_ne.2 h61
                clear h47 h62 h61 he
                have g1 : ¬ 9223372036854775807 < N.size + (s.extract i (i + 1)).size := by rw [ByteArray.size_extract]; omega
                go_wp2_with (go_at_call 13; refine (HSp _).out.mono ?_; rintro e w' ⟨rfl, rfl⟩)
                go_roundw
                case rel => exact ⟨i + 1, N ++ s.extract i (i + 1), V, q, l, rfl, rfl, rfl, by simp, hbw, by omega, by rw [ByteArray.size_append, ByteArray.size_extract]; omega, by omega, HO.out, by omega, .inr (.inl ⟨rfl, HK.out, by omega⟩)⟩
                case measure => simp [intOf, rankI]; try omega
        · have HK := Lib.hid (at_same hlt (go1_end (by unfold endB; rw [HSP.out]; rfl)) hT)
          clear hT
          go_wp2_with (go_at_call 13; refine (HSp _).out.mono ?_; rintro e w' ⟨rfl, rfl⟩)
          go_roundw
          case rel => exact ⟨i, N, V, q, l, rfl, rfl, rfl, rfl, hbw, by omega, by omega, by omega, HO.out, by omega, .inr (.inr (.inl ⟨rfl, HK.out, by omega⟩))⟩
          case measure => simp [intOf, rankI]; try omega
      · cases sp
        · by_cases h61 : ((s[i].toNat : Nat) : Int) = 61
          · have HK := Lib.hid (at_more hlt (go2_eq (u8_eq _ 61 (by decide) h61)) hT)
            clear hT
            have b61 : (((s[i].toNat : Nat) : Int) == 61) = true := beq_iff_eq.2 h61
            clear h61
            go_wp2_with (go_at_call 13; refine (HSp _).out.mono ?_; rintro e w' ⟨rfl, rfl⟩)
            go_roundw
            case rel => exact ⟨i + 1, N, V, q, l, rfl, rfl, rfl, by simp, hbw, by omega, by omega, by omega, HO.out, by omega, .inr (.inr (.inr (.inl ⟨rfl, HK.out, by omega⟩)))⟩
            case measure => simp [intOf, rankI]; try omega
          · have HK := Lib.hid (at_same hlt (go2_else HSP.out (u8_ne _ 61 (by decide) h61)) hT)
            clear hT
            have b61 : (((s[i].toNat : Nat) : Int) == 61) = false := beq_eq_false_iff_ne.2 h61
            clear h61
            go_wp2_with (go_at_call 13; refine (HSp _).out.mono ?_; rintro e w' ⟨rfl, rfl⟩)
            refine (refAdd_any w.heap.size _ l N ⟨#[]⟩ _ hsz HO.out (by omega) (by decide) (by omega)).mono ?_
            rintro e w1 ⟨v1, rfl, ho1, b1⟩
            have hadd := addL_len l N.data.toList []
            have HO1 := Lib.hid ho1
            have B1 := hbw.trans b1
            clear ho1
            go_wp2
            go_roundw
            case rel => exact ⟨i, N, V, q, addL l N.data.toList [], rfl, rfl, rfl, rfl, B1, by omega, by omega, by omega, HO1.out, by omega, .inl ⟨rfl, HK.out⟩⟩
            case measure => simp [intOf, rankI]; try omega
        · have HK := Lib.hid (at_more hlt (go2_space HSP.out) hT)
          clear hT
          go_wp2_with (go_at_call 13; refine (HSp _).out.mono ?_; rintro e w' ⟨rfl, rfl⟩)
          go_roundw
          case rel => exact ⟨i + 1, N, V, q, l, rfl, rfl, rfl, by simp, hbw, by omega, by omega, by omega, HO.out, by omega, .inr (.inr (.inl ⟨rfl, HK.out, by omega⟩))⟩
          case measure => simp [intOf, rankI]; try omega
      · cases sp
        · by_cases h34 : ((s[i].toNat : Nat) : Int) = 34
          · have HK := Lib.hid (at_more hlt (go3_quote (.inl (u8_eq _ 34 (by decide) h34))) hT)
            clear hT
            have b34 : (((s[i].toNat : Nat) : Int) == 34) = true := beq_iff_eq.2 h34
            clear h34
            go_wp2_with (go_at_call 13; refine (HSp _).out.mono ?_; rintro e w' ⟨rfl, rfl⟩)
            go_roundw
            case rel => exact ⟨i + 1, N, ⟨#[]⟩, s[i], l, rfl, rfl, rfl, by simp, hbw, by omega, by omega, Nat.zero_le _, HO.out, by omega, .inr (.inr (.inr (.inr (.inl ⟨rfl, HK.out, by omega⟩))))⟩
            case measure => simp [intOf, rankI]; try omega
          · by_cases h39 : ((s[i].toNat : Nat) : Int) = 39
            · have HK := Lib.hid (at_more hlt (go3_quote (.inr (u8_eq _ 39 (by decide) h39))) hT)
              clear hT
              have b34 : (((s[i].toNat : Nat) : Int) == 34) = false := beq_eq_false_iff_ne.2 h34
              have b39 : (((s[i].toNat : Nat) : Int) == 39) = true := beq_iff_eq.2 h39
              clear h34 h39
              go_wp2_with (go_at_call 13; refine (HSp _).out.mono ?_; rintro e w' ⟨rfl, rfl⟩)
              go_roundw
              case rel => exact ⟨i + 1, N, ⟨#[]⟩, s[i], l, rfl, rfl, rfl, by simp, hbw, by omega, by omega, Nat.zero_le _, HO.out, by omega, .inr (.inr (.inr (.inr (.inl ⟨rfl, HK.out, by omega⟩))))⟩
              case measure => simp [intOf, rankI]; try omega
            · by_cases h62 : ((s[i].toNat : Nat) : Int) = 62
              · have HK := Lib.hid (at_same hlt (go3_end (u8_eq _ 62 (by decide) h62)) hT)
                clear hT
                have b34 : (((s[i].toNat : Nat) : Int) == 34) = false := beq_eq_false_iff_ne.2 h34
                have b39 : (((s[i].toNat : Nat) : Int) == 39) = false := beq_eq_false_iff_ne.2 h39
                have b62 : (((s[i].toNat : Nat) : Int) == 62) = true := beq_iff_eq.2 h62
                clear h34 h39 h62
                go_wp2_with (go_at_call 13; refine (HSp _).out.mono ?_; rintro e w' ⟨rfl, rfl⟩)
                refine (refAdd_any w.heap.size _ l N ⟨#[]⟩ _ hsz HO.out (by omega) (by decide) (by omega)).mono ?_
                rintro e w1 ⟨v1, rfl, ho1, b1⟩
                have hadd := addL_len l N.data.toList []
                have HO1 := Lib.hid ho1
                have B1 := hbw.trans b1
                clear ho1
                go_wp2
                go_roundw
                case rel => exact ⟨i, N, ⟨#[]⟩, q, addL l N.data.toList [], rfl, rfl, rfl, rfl, B1, by omega, by omega, Nat.zero_le _, HO1.out, by omega, .inl ⟨rfl, HK.out⟩⟩
                case measure => simp [intOf, rankI]; try omega
              · have HK := Lib.hid (at_same hlt (go3_else HSP.out (by rintro (e | e); exact (u8_ne _ 34 (by decide) h34) e; exact (u8_ne _ 39 (by decide) h39) e) (u8_ne _ 62 (by decide) h62)) hT)
                clear hT
                have b34 : (((s[i].toNat : Nat) : Int) == 34) = false := beq_eq_false_iff_ne.2 h34
                have b39 : (((s[i].toNat : Nat) : Int) == 39) = false := beq_eq_false_iff_ne.2 h39
                have b62 : (((s[i].toNat : Nat) : Int) == 62) = false := beq_eq_false_iff_ne.2 h62
                clear h34 h39 h62
                go_wp2_with (go_at_call 13; refine (HSp _).out.mono ?_; rintro e w' ⟨rfl, rfl⟩)
                go_roundw
                case rel => exact ⟨i, N, ⟨#[]⟩, q, l, rfl, rfl, rfl, rfl, hbw, by omega, by omega, Nat.zero_le _, HO.out, by omega, .inr (.inr (.inr (.inr (.inr (⟨rfl, HK.out, by omega⟩)))))⟩
                case measure => simp [intOf, rankI]; try omega
        · have HK := Lib.hid (at_more hlt (go3_space HSP.out) hT)
          clear hT
          go_wp2_with (go_at_call 13; refine (HSp _).out.mono ?_; rintro e w' ⟨rfl, rfl⟩)
          go_roundw
          case rel => exact ⟨i + 1, N, ⟨#[]⟩, q, l, rfl, rfl, rfl, by simp, hbw, by omega, by omega, Nat.zero_le _, HO.out, by omega, .inr (.inr (.inr (.inl ⟨rfl, HK.out, by omega⟩)))⟩
          case measure => simp [intOf, rankI]; try omega
      · clear HSP
        by_cases hq : ((s[i].toNat : Nat) : Int) = (q.toNat : Int)
        · have hq2 : s[i] = q := by rw [← UInt8.toNat_inj]; omega
          have HK := Lib.hid (at_more hlt (go4_end hq2) hT)
          clear hT
          have bq : (((s[i].toNat : Nat) : Int) == (q.toNat : Int)) = true := beq_iff_eq.2 hq
          clear hq hq2
          go_wp2_with (go_at_call 13; refine (HSp _).out.mono ?_; rintro e w' ⟨rfl, rfl⟩)
          refine (refAdd_any w.heap.size _ l N V _ hsz HO.out (by omega) (by omega) (by omega)).mono ?_
          rintro e w1 ⟨v1, rfl, ho1, b1⟩
          have hadd := addL_len l N.data.toList V.data.toList
          have HO1 := Lib.hid ho1
          have B1 := hbw.trans b1
          clear ho1
          go_wp2
          go_roundw
          case rel => exact ⟨i + 1, N, V, q, addL l N.data.toList V.data.toList, rfl, rfl, rfl, by simp, B1, by omega, by omega, by omega, HO1.out, by omega, .inl ⟨rfl, HK.out⟩⟩
          case measure => simp [intOf, rankI]; try omega
        · have hq2 : s[i] ≠ q := fun e => hq (by rw [e])
          have HK := Lib.hid (at_more hlt (go4_more hq2) hT)
          clear hT
          rw [← add_one s i hlt V] at HK
          have bq : (((s[i].toNat : Nat) : Int) == (q.toNat : Int)) = false := beq_eq_false_iff_ne.2 hq
          clear hq hq2
          have g1 : ¬ 9223372036854775807 < V.size + (s.extract i (i + 1)).size := by rw [ByteArray.size_extract]; omega
          go_wp2_with (go_at_call 13; refine (HSp _).out.mono ?_; rintro e w' ⟨rfl, rfl⟩)
          go_roundw
          case rel => exact ⟨i + 1, N, V ++ s.extract i (i + 1), q, l, rfl, rfl, rfl, by simp, hbw, by omega, by omega, by rw [ByteArray.size_append, ByteArray.size_extract]; omega, HO.out, by omega, .inr (.inr (.inr (.inr (.inl ⟨rfl, HK.out, by omega⟩))))⟩
          case measure => simp [intOf, rankI]; try omega
      · cases sp
        · by_cases h62 : ((s[i].toNat : Nat) : Int) = 62
          · have HK := Lib.hid (at_same hlt (go5_end (by rw [u8_eq _ 62 (by decide) h62]; simp)) hT)
            clear hT
            have b62 : (((s[i].toNat : Nat) : Int) == 62) = true := beq_iff_eq.2 h62
            clear h62
            go_wp2_with (go_at_call 13; refine (HSp _).out.mono ?_; rintro e w' ⟨rfl, rfl⟩)
            refine (refAdd_any w.heap.size _ l N V _ hsz HO.out (by omega) (by omega) (by omega)).mono ?_
            rintro e w1 ⟨v1, rfl, ho1, b1⟩
            have hadd := addL_len l N.data.toList V.data.toList
            have HO1 := Lib.hid ho1
            have B1 := hbw.trans b1
            clear ho1
            go_wp2
            go_roundw
            case rel => exact ⟨i, N, V, q, addL l N.data.toList V.data.toList, rfl, rfl, rfl, rfl, B1, by omega, by omega, by omega, HO1.out, by omega, .inl ⟨rfl, HK.out⟩⟩
            case measure => simp [intOf, rankI]; try omega
          · have e62 : (s[i] == 62) = false := beq_eq_false_iff_ne.2 (u8_ne _ 62 (by decide) h62)
            have HK := Lib.hid (at_more hlt (go5_more (by rw [HSP.out, e62]; rfl)) hT)
            clear hT
            clear e62
            rw [← add_one s i hlt V] at HK
            have b62 : (((s[i].toNat : Nat) : Int) == 62) = false := beq_eq_false_iff_ne.2 h62
            clear h62
            have g1 : ¬ 9223372036854775807 < V.size + (s.extract i (i + 1)).size := by rw [ByteArray.size_extract]; omega
            go_wp2_with (go_at_call 13; refine (HSp _).out.mono ?_; rintro e w' ⟨rfl, rfl⟩)
            go_roundw
            case rel => exact ⟨i + 1, N, V ++ s.extract i (i + 1), q, l, rfl, rfl, rfl, by simp, hbw, by omega, by omega, by rw [ByteArray.size_append, ByteArray.size_extract]; omega, HO.out, by omega, .inr (.inr (.inr (.inr (.inr (⟨rfl, HK.out, by omega⟩)))))⟩
            case measure => simp [intOf, rankI]; try omega
        · have HK := Lib.hid (at_same hlt (go5_end (by rw [HSP.out]; rfl)) hT)
          clear hT
          go_wp2_with (go_at_call 13; refine (HSp _).out.mono ?_; rintro e w' ⟨rfl, rfl⟩)
          refine (refAdd_any w.heap.size _ l N V _ hsz HO.out (by omega) (by omega) (by omega)).mono ?_
          rintro e w1 ⟨v1, rfl, ho1, b1⟩
          have hadd := addL_len l N.data.toList V.data.toList
          have HO1 := Lib.hid ho1
          have B1 := hbw.trans b1
          clear ho1
          go_wp2
          go_roundw
          case rel => exact ⟨i, N, V, q, addL l N.data.toList V.data.toList, rfl, rfl, rfl, rfl, B1, by omega, by omega, by omega, HO1.out, by omega, .inl ⟨rfl, HK.out⟩⟩
          case measure => simp [intOf, rankI]; try omega
    · have hnone : T = none := by
        rcases hst with ⟨-, hT⟩ | ⟨-, hT, -⟩ | ⟨-, hT, -⟩ | ⟨-, hT, -⟩ | ⟨-, hT, -⟩ | ⟨-, hT, -⟩
        all_goals exact at_end hlt hT
      have HV := Lib.hid (HV0.out hnone)
      rw [← Lib.size_eq] at HV
      have hge : (s.size : Int) ≤ (i : Int) := by omega
      clear hst hnone hlt
      go_wp2
      try simp only [Exit.inBlock, Exit.then]
      refine bodyPost_ret (results_tmp4 rfl _ _ _) rfl ?_
      exact ⟨_, _, _, _, _, _, _, rfl, isRows_none _, HV.out, hbw⟩
end Go.Proofs.YtpdmnnfbdeiejaaGreatDoor
