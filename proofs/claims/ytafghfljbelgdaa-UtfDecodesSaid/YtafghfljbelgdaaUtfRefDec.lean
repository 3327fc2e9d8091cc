/-
  What the document's Right and Decode of layer 1 answer, for every argument.
-/
import Derived.Test.YtafghfljbelgdaaUtfRefSeq
namespace Go.Proofs.Ytafghfljbelgdaa
open Go.RowKit Go.Lib

theorem seqF_le (l : List UInt8) (hne : l ≠ []) : 1 ≤ (seqF l).1 ∧ (seqF l).1 ≤ l.length ∧ (seqF l).1 ≤ 4 := by
  have h1 := begL_ge l
  have h2 := begL_le l hne
  have h3 := decodeL_width l
  have h4 := width_le l hne
  unfold seqF
  cases hb : brk l with
  | true => rw [if_pos rfl]; exact ⟨h1, h2.1, by simp only; omega⟩
  | false =>
    rw [if_neg (by simp)]
    refine ⟨h3, h4, ?_⟩
    have := width_enc l hne hb
    have := (enc_len ((decodeL l).1 : Int)).2
    simp only; omega
theorem seqF_dec (l : List UInt8) (hne : l ≠ []) : dec0 l = (if (seqF l).2 then l.take (seqF l).1 else badL) ++ dec0 (l.drop (seqF l).1) := by
  rw [dec0_step l hne]
  unfold seqF
  cases hb : brk l <;> rfl
theorem seqF_right (l : List UInt8) (hne : l ≠ []) : validD l = ((seqF l).2 && validD (l.drop (seqF l).1)) := by
  rw [validD_brk l hne]
  unfold seqF
  cases hb : brk l <;> simp

/-- a list cut off ahead, whatever room it has -/
theorem IsBytes.cutAny {w : World} {a : Option Addr} {len cap : Nat} {l : List UInt8} (h : IsBytes w (.slice a len cap) l) (k : Nat) (hk0 : 0 < k) (hk : k ≤ len) :
    IsBytes w (.slice (if cap = k then a else Option.map (fun x => { block := x.block, off := x.off + k }) a) (len - k) (cap - k)) (l.drop k) := by
  have hl := h.cap
  by_cases hc : cap = k
  · rw [if_pos hc]
    have e : l.drop k = [] := List.drop_eq_nil_of_le (by omega)
    rw [e, show len - k = 0 by omega, show cap - k = 0 by omega]
    exact h.none_left
  · rw [if_neg hc]; exact h.cut k hk0 hk hc

/-- the same, as the walk spells it where k is no numeral -/
theorem IsBytes.cutAdd {w : World} {a : Option Addr} {len cap : Nat} {l : List UInt8} (h : IsBytes w (.slice a len cap) l) (k : Nat) (hk0 : 0 < k) (hk : k ≤ len) (hc : cap ≠ k) :
    IsBytes w (.slice (Option.map (fun x => x.add k) a) (len - k) (cap - k)) (l.drop k) := by
  have := h.cut k hk0 hk hc
  have e : (fun x : Addr => x.add k) = (fun x => { block := x.block, off := x.off + k }) := funext fun x => add_pos x k hk0
  rw [e]; exact this
theorem IsBytes.cutAll {w : World} {a : Option Addr} {len : Nat} {l : List UInt8} (h : IsBytes w (.slice a len len) l) : IsBytes w (.slice a 0 0) (l.drop len) := by
  have e : l.drop len = [] := List.drop_eq_nil_of_le (by have := h.cap.1; omega)
  rw [e]; exact h.none_left

def lenOfV : Value → Nat
  | .slice _ n _ => n
  | _ => 0

set_option maxRecDepth 100000 in
set_option maxHeartbeats 1000000 in
theorem refRight_any (s : ByteArray) (w : World) (hm : s.size ≤ 1099511627776) :
    Calls Try.prog 14 #[.string s] w fun e w' => e = .returned (.bool (validD s.data.toList)) ∧ Below w.heap.size w w' := by
  have kc := fun (wx : World) (s : ByteArray) => run_bytes_of_string (P := Try.prog) wx 9 22 5 s Try.underlying9 Try.underlying22 Try.underlying5
  have b0 := isBytes_conv w s s.size ((bytesRow s (grownCap w s.size 0 5)).size, (bytesRow s (grownCap w s.size 0 5)).size + 1) rfl (by unfold maxLen; omega)
  go_enter Try.func14, Try.ntmps14
  go_wp2_with (fail)
  clear kc
  go_loopw [3] (fun v wr => ∃ (a : Option Addr) (len cap : Nat) (l : List UInt8), v = .slice a len cap ∧ IsBytes wr (.slice a len cap) l ∧ Below w.heap.size w wr ∧ validD l = validD s.data.toList ∧ len ≤ s.size) (fun v _ => lenOfV v)
  case atStart => exact ⟨_, _, _, _, rfl, b0, (((Below.refl _ w).alloc (Nat.le_refl _) _).drew), rfl, Nat.le_refl _⟩
  case round =>
    obtain ⟨a, len, cap, l, rfl, hb, hbw, hv, hls⟩ := hrel
    have HV := Lib.hid hv
    have hl := hb.cap
    have HL := Lib.hid hl.1
    have hlc := hl.2
    clear hv hl b0
    have hbs := hbw.size
    by_cases hp : 0 < len
    · have hne : l ≠ [] := by intro h0; have := HL.out; rw [h0] at this; simp at this; omega
      obtain ⟨n, hn⟩ : ∃ n, (seqF l).1 = n := ⟨_, rfl⟩
      have hle := seqF_le l hne
      rw [hn, HL.out] at hle
      obtain ⟨hn1, hn2, -⟩ := hle
      have HN := Lib.hid hn
      have HR := Lib.hid (seqF_right l hne)
      clear hn hne
      cases hf : (seqF l).2 with
      | false =>
        have HF := Lib.hid hf
        clear hf
        go_wp2_with (go_at_call 25; refine (first_any l a _ len cap hb (by omega) (by omega)).mono ?_; rintro e w1 ⟨rfl, hb1⟩; rw [HN.out, HF.out])
        go_ret
        exact ⟨ret_bool (by rw [← HV.out, HR.out, HF.out]; rfl), hbw.trans (hb1.mono hbs)⟩
      | true =>
        have HF := Lib.hid hf
        clear hf
        have HV2 : Hid (validD (l.drop n) = validD s.data.toList) := Lib.hid (by rw [← HV.out, HR.out, HF.out, HN.out]; simp)
        by_cases hc : cap = n
        · obtain rfl : len = n := by omega
          obtain rfl : cap = len := hc
          go_wp2_with (go_at_call 25; refine (first_any l a _ cap cap hb (by omega) (by omega)).mono ?_; rintro e w1 ⟨rfl, hb1⟩; rw [HN.out, HF.out])
          go_roundw
          case rel => exact ⟨a, 0, 0, l.drop cap, by simp, (hb.kept hb1).cutAll, hbw.trans (hb1.mono hbs), HV2.out, Nat.zero_le _⟩
          case measure => simp [lenOfV]; omega
        · go_wp2_with (go_at_call 25; refine (first_any l a _ len cap hb (by omega) (by omega)).mono ?_; rintro e w1 ⟨rfl, hb1⟩; rw [HN.out, HF.out])
          go_roundw
          case rel => exact ⟨_, _, _, _, rfl, (hb.kept hb1).cutAdd n (by omega) hn2 hc, hbw.trans (hb1.mono hbs), HV2.out, by omega⟩
          case measure => simp [lenOfV]; omega
    · go_wp2
      go_ret
      have h0 : l = [] := List.eq_nil_of_length_eq_zero (by have := HL.out; omega)
      exact ⟨ret_bool (by rw [← HV.out, h0, validD_nil]), hbw⟩

/-- a list cut off behind -/
theorem IsBytes.take {w : World} {a : Option Addr} {len cap : Nat} {l : List UInt8} (h : IsBytes w (.slice a len cap) l) (k : Nat) (hk : k ≤ len) : IsBytes w (.slice a k cap) (l.take k) := by
  have hl := h.cap
  have e : (l.take k).length = k := by rw [List.length_take]; omega
  rcases h with ⟨hv, rfl⟩ | ⟨x, c, hv, h1, h2, h3⟩
  · injection hv with h4 h5 h6; subst h4; subst h5; subst h6
    obtain rfl : k = 0 := by omega
    exact .inl ⟨rfl, rfl⟩
  · injection hv with h4 h5 h6; subst h4; subst h6
    refine .inr ⟨x, cap, by rw [e], by rw [e]; omega, h2, fun i hi => ?_⟩
    rw [List.getElem_take]
    exact h3 i (by rw [e] at hi; omega)

theorem mark_test (l : List UInt8) (h3 : 3 ≤ l.length) : hasPrefix l markL = decide ((l.getD 0 0).toNat = 239 ∧ (l.getD 1 0).toNat = 187 ∧ (l.getD 2 0).toNat = 191) := by
  match l, h3 with
  | x :: y :: z :: t, _ =>
    rw [Bool.eq_iff_iff, decide_eq_true_iff]
    unfold hasPrefix
    rw [List.isPrefixOf_iff_prefix]
    simp only [markL, getD0, getD_s]
    constructor
    · rintro ⟨u, hu⟩
      simp only [List.cons_append, List.nil_append, List.cons.injEq] at hu
      exact ⟨by rw [← hu.1]; rfl, by rw [← hu.2.1]; rfl, by rw [← hu.2.2.1]; rfl⟩
    · rintro ⟨h1, h2, h3⟩
      have e1 : x = 239 := UInt8.toNat_inj.1 h1
      have e2 : y = 187 := UInt8.toNat_inj.1 h2
      have e3 : z = 191 := UInt8.toNat_inj.1 h3
      subst e1; subst e2; subst e3
      exact ⟨t, rfl⟩
theorem no_mark_short (l : List UInt8) (h3 : l.length < 3) : hasPrefix l markL = false := by
  rw [Bool.eq_false_iff]
  intro hp
  obtain ⟨t, rfl⟩ := (hasMark _).1 hp
  simp [markL] at h3
  omega

set_option maxRecDepth 100000 in
set_option maxHeartbeats 2000000 in
theorem refDec_short (a0 : Option Addr) (len0 cap0 : Nat) (l0 : List UInt8) (w : World) (h : IsBytes w (.slice a0 len0 cap0) l0) (hm : len0 ≤ 1099511627776) (h3 : len0 < 3) :
    Calls Try.prog 12 #[.slice a0 len0 cap0] w fun e w' => e = .returned (.string ⟨(dec l0).toArray⟩) ∧ Below w.heap.size w w' := by
  have H0 : Hid (dec l0 = dec0 l0) := Lib.hid (dec_plain l0 (no_mark_short l0 (by have := h.cap; omega)))
  go_enter Try.func12, Try.ntmps12
  go_wp2_with (fail)
  go_loopw [0, 3] (fun v o wr => ∃ (a : Option Addr) (len cap : Nat) (l : List UInt8) (O : ByteArray), v = .slice a len cap ∧ o = .string O ∧ IsBytes wr (.slice a len cap) l ∧ Below w.heap.size w wr ∧ O.data.toList ++ dec0 l = dec l0 ∧ O.size + 3 * len ≤ 3 * len0) (fun v _ _ => lenOfV v)
  case atStart => exact ⟨_, _, _, l0, ⟨#[]⟩, rfl, rfl, h, Below.refl _ _, by rw [H0.out]; rfl, by have e : (ByteArray.mk #[]).size = 0 := rfl; rw [e]; omega⟩
  case round =>
    obtain ⟨a, len, cap, l, O, rfl, rfl, hb, hbw, hv, hls⟩ := hrel
    have HV := Lib.hid hv
    have hl := hb.cap
    have HL := Lib.hid hl.1
    have hlc := hl.2
    clear hv hl
    have hbs := hbw.size
    by_cases hp : 0 < len
    · have hne : l ≠ [] := by intro h0; have := HL.out; rw [h0] at this; simp at this; omega
      obtain ⟨n, hn⟩ : ∃ n, (seqF l).1 = n := ⟨_, rfl⟩
      have hle := seqF_le l hne
      rw [hn, HL.out] at hle
      obtain ⟨hn1, hn2, -⟩ := hle
      have hnc : n ≤ cap := by omega
      have HN := Lib.hid hn
      have HR := Lib.hid (seqF_dec l hne)
      clear hn hne
      obtain ⟨T, hT, lT, sT⟩ := named (l.take n)
      have sT' : T.size = n := by rw [sT, List.length_take, HL.out]; omega
      have hTn : T.size ≤ n := by omega
      have hTO : O.size + T.size + 3 * (len - n) ≤ 3 * len0 := by omega
      have hBO : O.size + 3 + 3 * (len - n) ≤ 3 * len0 := by omega
      have LT := Lib.hid lT
      have HT := Lib.hid hT
      clear hT lT sT sT'
      cases hf : (seqF l).2 with
      | false =>
        have HF := Lib.hid hf
        clear hf hTn hTO
        have HV2 : Hid ((O ++ ⟨#[239, 191, 189]⟩ : ByteArray).data.toList ++ dec0 (l.drop n) = dec l0) := Lib.hid (by
          rw [← HV.out, HR.out, HF.out, HN.out, app_list, List.append_assoc]; rfl)
        have hsz : (O ++ ⟨#[239, 191, 189]⟩ : ByteArray).size = O.size + 3 := by simp; rfl
        have HSZ := Lib.hid hsz
        clear hsz
        by_cases hc : cap = n
        · obtain rfl : len = n := by omega
          obtain rfl : cap = len := hc
          go_wp2_with (go_at_call 25; refine (first_any l a _ cap cap hb (by omega) (by omega)).mono ?_; rintro e w1 ⟨rfl, hb1⟩; rw [HN.out, HF.out])
          go_roundw
          case rel => exact ⟨a, 0, 0, l.drop cap, _, by simp, rfl, (hb.kept hb1).cutAll, hbw.trans (hb1.mono hbs), HV2.out, by rw [HSZ.out]; omega⟩
          case measure => simp [lenOfV]; omega
        · go_wp2_with (go_at_call 25; refine (first_any l a _ len cap hb (by omega) (by omega)).mono ?_; rintro e w1 ⟨rfl, hb1⟩; rw [HN.out, HF.out])
          go_roundw
          case rel => exact ⟨_, _, _, _, _, rfl, rfl, (hb.kept hb1).cutAdd n (by omega) hn2 hc, hbw.trans (hb1.mono hbs), HV2.out, by rw [HSZ.out]; omega⟩
          case measure => simp [lenOfV]; omega
      | true =>
        have HF := Lib.hid hf
        clear hf hBO
        have HV2 : Hid ((O ++ T).data.toList ++ dec0 (l.drop n) = dec l0) := Lib.hid (by
          rw [← HV.out, HR.out, HF.out, HN.out, app_list, LT.out, List.append_assoc]; simp)
        have HSZ : Hid ((O ++ T).size = O.size + T.size) := Lib.hid (by simp)
        by_cases hc : cap = n
        · obtain rfl : len = n := by omega
          obtain rfl : cap = len := hc
          go_wp2_with (go_at_call 25; refine (first_any l a _ cap cap hb (by omega) (by omega)).mono ?_; rintro e w1 ⟨rfl, hb1⟩; rw [HN.out, HF.out]; have hcv := (((hb.kept hb1).take cap (Nat.le_refl _))).conv; rw [HT.out] at hcv)
          go_roundw
          case rel => exact ⟨a, 0, 0, l.drop cap, _, by simp, rfl, (hb.kept hb1).cutAll, hbw.trans (hb1.mono hbs), HV2.out, by rw [HSZ.out]; omega⟩
          case measure => simp [lenOfV]; omega
        · go_wp2_with (go_at_call 25; refine (first_any l a _ len cap hb (by omega) (by omega)).mono ?_; rintro e w1 ⟨rfl, hb1⟩; rw [HN.out, HF.out]; have hcv := (((hb.kept hb1).take n hn2)).conv; rw [HT.out] at hcv)
          go_roundw
          case rel => exact ⟨_, _, _, _, _, rfl, rfl, (hb.kept hb1).cutAdd n (by omega) hn2 hc, hbw.trans (hb1.mono hbs), HV2.out, by rw [HSZ.out]; omega⟩
          case measure => simp [lenOfV]; omega
    · go_wp2
      go_ret
      have h0 : l = [] := List.eq_nil_of_length_eq_zero (by have := HL.out; omega)
      exact ⟨ret_str (by have := HV.out; rw [h0, dec0_nil, List.append_nil] at this; rw [list_str this.symm]), hbw⟩

set_option maxRecDepth 100000 in
set_option maxHeartbeats 2000000 in
theorem refDec_no0 (a0 : Option Addr) (len0 cap0 : Nat) (l0 : List UInt8) (w : World) (h : IsBytes w (.slice a0 len0 cap0) l0) (hm : len0 ≤ 1099511627776) (h3 : 3 ≤ len0) (g0 : (l0.getD 0 0).toNat ≠ 239) :
    Calls Try.prog 12 #[.slice a0 len0 cap0] w fun e w' => e = .returned (.string ⟨(dec l0).toArray⟩) ∧ Below w.heap.size w w' := by
  obtain ⟨x, rfl, -⟩ := h.cell (by omega)
  have hl0 := h.cap
  have c0 : w.cell? x = some (.int .u8 ((l0.getD 0 0).toNat : Int)) := by have := h.cellAt 0 (by omega); rwa [show x.add 0 = x by simp [Addr.add]] at this
  have c1 : w.cell? ⟨x.block, x.off + 1, none⟩ = some (.int .u8 ((l0.getD 1 0).toNat : Int)) := by have := h.cellAt 1 (by omega); rwa [add_pos x 1 (by omega)] at this
  have c2 : w.cell? ⟨x.block, x.off + 2, none⟩ = some (.int .u8 ((l0.getD 2 0).toNat : Int)) := by have := h.cellAt 2 (by omega); rwa [add_pos x 2 (by omega)] at this
  have HM := Lib.hid (mark_test l0 (by omega))
  have t0 : (((l0.getD 0 0).toNat : Int) == 239) = false := by rw [beq_eq_false_iff_ne]; omega
  have H0 : Hid (dec l0 = dec0 l0) := Lib.hid (dec_plain l0 (by rw [HM.out, decide_eq_false_iff_not]; omega))
  have hcap0 := hl0.2
  clear hl0 HM g0
  generalize (l0.getD 0 0).toNat = b0 at c0 t0
  generalize (l0.getD 1 0).toNat = b1 at c1
  generalize (l0.getD 2 0).toNat = b2 at c2
  have t9 : decide ((3 : Int) ≤ (len0 : Int)) = true := decide_eq_true (by omega)
  go_enter Try.func12, Try.ntmps12
  go_wp2_with (fail)
  clear t0 t9
  go_loopw [0, 3] (fun v o wr => ∃ (a : Option Addr) (len cap : Nat) (l : List UInt8) (O : ByteArray), v = .slice a len cap ∧ o = .string O ∧ IsBytes wr (.slice a len cap) l ∧ Below w.heap.size w wr ∧ O.data.toList ++ dec0 l = dec l0 ∧ O.size + 3 * len ≤ 3 * len0) (fun v _ _ => lenOfV v)
  case atStart => exact ⟨_, _, _, l0, ⟨#[]⟩, rfl, rfl, h, Below.refl _ _, by rw [H0.out]; rfl, by have e : (ByteArray.mk #[]).size = 0 := rfl; rw [e]; omega⟩
  case round =>
    obtain ⟨a, len, cap, l, O, rfl, rfl, hb, hbw, hv, hls⟩ := hrel
    have HV := Lib.hid hv
    have hl := hb.cap
    have HL := Lib.hid hl.1
    have hlc := hl.2
    clear hv hl
    have hbs := hbw.size
    by_cases hp : 0 < len
    · have hne : l ≠ [] := by intro h0; have := HL.out; rw [h0] at this; simp at this; omega
      obtain ⟨n, hn⟩ : ∃ n, (seqF l).1 = n := ⟨_, rfl⟩
      have hle := seqF_le l hne
      rw [hn, HL.out] at hle
      obtain ⟨hn1, hn2, -⟩ := hle
      have hnc : n ≤ cap := by omega
      have HN := Lib.hid hn
      have HR := Lib.hid (seqF_dec l hne)
      clear hn hne
      obtain ⟨T, hT, lT, sT⟩ := named (l.take n)
      have sT' : T.size = n := by rw [sT, List.length_take, HL.out]; omega
      have hTn : T.size ≤ n := by omega
      have hTO : O.size + T.size + 3 * (len - n) ≤ 3 * len0 := by omega
      have hBO : O.size + 3 + 3 * (len - n) ≤ 3 * len0 := by omega
      have LT := Lib.hid lT
      have HT := Lib.hid hT
      clear hT lT sT sT'
      cases hf : (seqF l).2 with
      | false =>
        have HF := Lib.hid hf
        clear hf hTn hTO
        have HV2 : Hid ((O ++ ⟨#[239, 191, 189]⟩ : ByteArray).data.toList ++ dec0 (l.drop n) = dec l0) := Lib.hid (by
          rw [← HV.out, HR.out, HF.out, HN.out, app_list, List.append_assoc]; rfl)
        have hsz : (O ++ ⟨#[239, 191, 189]⟩ : ByteArray).size = O.size + 3 := by simp; rfl
        have HSZ := Lib.hid hsz
        clear hsz
        by_cases hc : cap = n
        · obtain rfl : len = n := by omega
          obtain rfl : cap = len := hc
          go_wp2_with (go_at_call 25; refine (first_any l a _ cap cap hb (by omega) (by omega)).mono ?_; rintro e w1 ⟨rfl, hb1⟩; rw [HN.out, HF.out])
          go_roundw
          case rel => exact ⟨a, 0, 0, l.drop cap, _, by simp, rfl, (hb.kept hb1).cutAll, hbw.trans (hb1.mono hbs), HV2.out, by rw [HSZ.out]; omega⟩
          case measure => simp [lenOfV]; omega
        · go_wp2_with (go_at_call 25; refine (first_any l a _ len cap hb (by omega) (by omega)).mono ?_; rintro e w1 ⟨rfl, hb1⟩; rw [HN.out, HF.out])
          go_roundw
          case rel => exact ⟨_, _, _, _, _, rfl, rfl, (hb.kept hb1).cutAdd n (by omega) hn2 hc, hbw.trans (hb1.mono hbs), HV2.out, by rw [HSZ.out]; omega⟩
          case measure => simp [lenOfV]; omega
      | true =>
        have HF := Lib.hid hf
        clear hf hBO
        have HV2 : Hid ((O ++ T).data.toList ++ dec0 (l.drop n) = dec l0) := Lib.hid (by
          rw [← HV.out, HR.out, HF.out, HN.out, app_list, LT.out, List.append_assoc]; simp)
        have HSZ : Hid ((O ++ T).size = O.size + T.size) := Lib.hid (by simp)
        by_cases hc : cap = n
        · obtain rfl : len = n := by omega
          obtain rfl : cap = len := hc
          go_wp2_with (go_at_call 25; refine (first_any l a _ cap cap hb (by omega) (by omega)).mono ?_; rintro e w1 ⟨rfl, hb1⟩; rw [HN.out, HF.out]; have hcv := (((hb.kept hb1).take cap (Nat.le_refl _))).conv; rw [HT.out] at hcv)
          go_roundw
          case rel => exact ⟨a, 0, 0, l.drop cap, _, by simp, rfl, (hb.kept hb1).cutAll, hbw.trans (hb1.mono hbs), HV2.out, by rw [HSZ.out]; omega⟩
          case measure => simp [lenOfV]; omega
        · go_wp2_with (go_at_call 25; refine (first_any l a _ len cap hb (by omega) (by omega)).mono ?_; rintro e w1 ⟨rfl, hb1⟩; rw [HN.out, HF.out]; have hcv := (((hb.kept hb1).take n hn2)).conv; rw [HT.out] at hcv)
          go_roundw
          case rel => exact ⟨_, _, _, _, _, rfl, rfl, (hb.kept hb1).cutAdd n (by omega) hn2 hc, hbw.trans (hb1.mono hbs), HV2.out, by rw [HSZ.out]; omega⟩
          case measure => simp [lenOfV]; omega
    · go_wp2
      go_ret
      have h0 : l = [] := List.eq_nil_of_length_eq_zero (by have := HL.out; omega)
      exact ⟨ret_str (by have := HV.out; rw [h0, dec0_nil, List.append_nil] at this; rw [list_str this.symm]), hbw⟩

set_option maxRecDepth 100000 in
set_option maxHeartbeats 2000000 in
theorem refDec_no1 (a0 : Option Addr) (len0 cap0 : Nat) (l0 : List UInt8) (w : World) (h : IsBytes w (.slice a0 len0 cap0) l0) (hm : len0 ≤ 1099511627776) (h3 : 3 ≤ len0) (g0 : (l0.getD 0 0).toNat = 239) (g1 : (l0.getD 1 0).toNat ≠ 187) :
    Calls Try.prog 12 #[.slice a0 len0 cap0] w fun e w' => e = .returned (.string ⟨(dec l0).toArray⟩) ∧ Below w.heap.size w w' := by
  obtain ⟨x, rfl, -⟩ := h.cell (by omega)
  have hl0 := h.cap
  have c0 : w.cell? x = some (.int .u8 ((l0.getD 0 0).toNat : Int)) := by have := h.cellAt 0 (by omega); rwa [show x.add 0 = x by simp [Addr.add]] at this
  have c1 : w.cell? ⟨x.block, x.off + 1, none⟩ = some (.int .u8 ((l0.getD 1 0).toNat : Int)) := by have := h.cellAt 1 (by omega); rwa [add_pos x 1 (by omega)] at this
  have c2 : w.cell? ⟨x.block, x.off + 2, none⟩ = some (.int .u8 ((l0.getD 2 0).toNat : Int)) := by have := h.cellAt 2 (by omega); rwa [add_pos x 2 (by omega)] at this
  have HM := Lib.hid (mark_test l0 (by omega))
  have t0 : (((l0.getD 0 0).toNat : Int) == 239) = true := by rw [beq_iff_eq]; omega
  have t1 : (((l0.getD 1 0).toNat : Int) == 187) = false := by rw [beq_eq_false_iff_ne]; omega
  have H0 : Hid (dec l0 = dec0 l0) := Lib.hid (dec_plain l0 (by rw [HM.out, decide_eq_false_iff_not]; omega))
  have hcap0 := hl0.2
  clear hl0 HM g0 g1
  generalize (l0.getD 0 0).toNat = b0 at c0 t0
  generalize (l0.getD 1 0).toNat = b1 at c1 t1
  generalize (l0.getD 2 0).toNat = b2 at c2
  have t9 : decide ((3 : Int) ≤ (len0 : Int)) = true := decide_eq_true (by omega)
  go_enter Try.func12, Try.ntmps12
  go_wp2_with (fail)
  clear t0 t1 t9
  go_loopw [0, 3] (fun v o wr => ∃ (a : Option Addr) (len cap : Nat) (l : List UInt8) (O : ByteArray), v = .slice a len cap ∧ o = .string O ∧ IsBytes wr (.slice a len cap) l ∧ Below w.heap.size w wr ∧ O.data.toList ++ dec0 l = dec l0 ∧ O.size + 3 * len ≤ 3 * len0) (fun v _ _ => lenOfV v)
  case atStart => exact ⟨_, _, _, l0, ⟨#[]⟩, rfl, rfl, h, Below.refl _ _, by rw [H0.out]; rfl, by have e : (ByteArray.mk #[]).size = 0 := rfl; rw [e]; omega⟩
  case round =>
    obtain ⟨a, len, cap, l, O, rfl, rfl, hb, hbw, hv, hls⟩ := hrel
    have HV := Lib.hid hv
    have hl := hb.cap
    have HL := Lib.hid hl.1
    have hlc := hl.2
    clear hv hl
    have hbs := hbw.size
    by_cases hp : 0 < len
    · have hne : l ≠ [] := by intro h0; have := HL.out; rw [h0] at this; simp at this; omega
      obtain ⟨n, hn⟩ : ∃ n, (seqF l).1 = n := ⟨_, rfl⟩
      have hle := seqF_le l hne
      rw [hn, HL.out] at hle
      obtain ⟨hn1, hn2, -⟩ := hle
      have hnc : n ≤ cap := by omega
      have HN := Lib.hid hn
      have HR := Lib.hid (seqF_dec l hne)
      clear hn hne
      obtain ⟨T, hT, lT, sT⟩ := named (l.take n)
      have sT' : T.size = n := by rw [sT, List.length_take, HL.out]; omega
      have hTn : T.size ≤ n := by omega
      have hTO : O.size + T.size + 3 * (len - n) ≤ 3 * len0 := by omega
      have hBO : O.size + 3 + 3 * (len - n) ≤ 3 * len0 := by omega
      have LT := Lib.hid lT
      have HT := Lib.hid hT
      clear hT lT sT sT'
      cases hf : (seqF l).2 with
      | false =>
        have HF := Lib.hid hf
        clear hf hTn hTO
        have HV2 : Hid ((O ++ ⟨#[239, 191, 189]⟩ : ByteArray).data.toList ++ dec0 (l.drop n) = dec l0) := Lib.hid (by
          rw [← HV.out, HR.out, HF.out, HN.out, app_list, List.append_assoc]; rfl)
        have hsz : (O ++ ⟨#[239, 191, 189]⟩ : ByteArray).size = O.size + 3 := by simp; rfl
        have HSZ := Lib.hid hsz
        clear hsz
        by_cases hc : cap = n
        · obtain rfl : len = n := by omega
          obtain rfl : cap = len := hc
          go_wp2_with (go_at_call 25; refine (first_any l a _ cap cap hb (by omega) (by omega)).mono ?_; rintro e w1 ⟨rfl, hb1⟩; rw [HN.out, HF.out])
          go_roundw
          case rel => exact ⟨a, 0, 0, l.drop cap, _, by simp, rfl, (hb.kept hb1).cutAll, hbw.trans (hb1.mono hbs), HV2.out, by rw [HSZ.out]; omega⟩
          case measure => simp [lenOfV]; omega
        · go_wp2_with (go_at_call 25; refine (first_any l a _ len cap hb (by omega) (by omega)).mono ?_; rintro e w1 ⟨rfl, hb1⟩; rw [HN.out, HF.out])
          go_roundw
          case rel => exact ⟨_, _, _, _, _, rfl, rfl, (hb.kept hb1).cutAdd n (by omega) hn2 hc, hbw.trans (hb1.mono hbs), HV2.out, by rw [HSZ.out]; omega⟩
          case measure => simp [lenOfV]; omega
      | true =>
        have HF := Lib.hid hf
        clear hf hBO
        have HV2 : Hid ((O ++ T).data.toList ++ dec0 (l.drop n) = dec l0) := Lib.hid (by
          rw [← HV.out, HR.out, HF.out, HN.out, app_list, LT.out, List.append_assoc]; simp)
        have HSZ : Hid ((O ++ T).size = O.size + T.size) := Lib.hid (by simp)
        by_cases hc : cap = n
        · obtain rfl : len = n := by omega
          obtain rfl : cap = len := hc
          go_wp2_with (go_at_call 25; refine (first_any l a _ cap cap hb (by omega) (by omega)).mono ?_; rintro e w1 ⟨rfl, hb1⟩; rw [HN.out, HF.out]; have hcv := (((hb.kept hb1).take cap (Nat.le_refl _))).conv; rw [HT.out] at hcv)
          go_roundw
          case rel => exact ⟨a, 0, 0, l.drop cap, _, by simp, rfl, (hb.kept hb1).cutAll, hbw.trans (hb1.mono hbs), HV2.out, by rw [HSZ.out]; omega⟩
          case measure => simp [lenOfV]; omega
        · go_wp2_with (go_at_call 25; refine (first_any l a _ len cap hb (by omega) (by omega)).mono ?_; rintro e w1 ⟨rfl, hb1⟩; rw [HN.out, HF.out]; have hcv := (((hb.kept hb1).take n hn2)).conv; rw [HT.out] at hcv)
          go_roundw
          case rel => exact ⟨_, _, _, _, _, rfl, rfl, (hb.kept hb1).cutAdd n (by omega) hn2 hc, hbw.trans (hb1.mono hbs), HV2.out, by rw [HSZ.out]; omega⟩
          case measure => simp [lenOfV]; omega
    · go_wp2
      go_ret
      have h0 : l = [] := List.eq_nil_of_length_eq_zero (by have := HL.out; omega)
      exact ⟨ret_str (by have := HV.out; rw [h0, dec0_nil, List.append_nil] at this; rw [list_str this.symm]), hbw⟩

set_option maxRecDepth 100000 in
set_option maxHeartbeats 2000000 in
theorem refDec_no2 (a0 : Option Addr) (len0 cap0 : Nat) (l0 : List UInt8) (w : World) (h : IsBytes w (.slice a0 len0 cap0) l0) (hm : len0 ≤ 1099511627776) (h3 : 3 ≤ len0) (g0 : (l0.getD 0 0).toNat = 239) (g1 : (l0.getD 1 0).toNat = 187) (g2 : (l0.getD 2 0).toNat ≠ 191) :
    Calls Try.prog 12 #[.slice a0 len0 cap0] w fun e w' => e = .returned (.string ⟨(dec l0).toArray⟩) ∧ Below w.heap.size w w' := by
  obtain ⟨x, rfl, -⟩ := h.cell (by omega)
  have hl0 := h.cap
  have c0 : w.cell? x = some (.int .u8 ((l0.getD 0 0).toNat : Int)) := by have := h.cellAt 0 (by omega); rwa [show x.add 0 = x by simp [Addr.add]] at this
  have c1 : w.cell? ⟨x.block, x.off + 1, none⟩ = some (.int .u8 ((l0.getD 1 0).toNat : Int)) := by have := h.cellAt 1 (by omega); rwa [add_pos x 1 (by omega)] at this
  have c2 : w.cell? ⟨x.block, x.off + 2, none⟩ = some (.int .u8 ((l0.getD 2 0).toNat : Int)) := by have := h.cellAt 2 (by omega); rwa [add_pos x 2 (by omega)] at this
  have HM := Lib.hid (mark_test l0 (by omega))
  have t0 : (((l0.getD 0 0).toNat : Int) == 239) = true := by rw [beq_iff_eq]; omega
  have t1 : (((l0.getD 1 0).toNat : Int) == 187) = true := by rw [beq_iff_eq]; omega
  have t2 : (((l0.getD 2 0).toNat : Int) == 191) = false := by rw [beq_eq_false_iff_ne]; omega
  have H0 : Hid (dec l0 = dec0 l0) := Lib.hid (dec_plain l0 (by rw [HM.out, decide_eq_false_iff_not]; omega))
  have hcap0 := hl0.2
  clear hl0 HM g0 g1 g2
  generalize (l0.getD 0 0).toNat = b0 at c0 t0
  generalize (l0.getD 1 0).toNat = b1 at c1 t1
  generalize (l0.getD 2 0).toNat = b2 at c2 t2
  have t9 : decide ((3 : Int) ≤ (len0 : Int)) = true := decide_eq_true (by omega)
  go_enter Try.func12, Try.ntmps12
  go_wp2_with (fail)
  clear t0 t1 t2 t9
  go_loopw [0, 3] (fun v o wr => ∃ (a : Option Addr) (len cap : Nat) (l : List UInt8) (O : ByteArray), v = .slice a len cap ∧ o = .string O ∧ IsBytes wr (.slice a len cap) l ∧ Below w.heap.size w wr ∧ O.data.toList ++ dec0 l = dec l0 ∧ O.size + 3 * len ≤ 3 * len0) (fun v _ _ => lenOfV v)
  case atStart => exact ⟨_, _, _, l0, ⟨#[]⟩, rfl, rfl, h, Below.refl _ _, by rw [H0.out]; rfl, by have e : (ByteArray.mk #[]).size = 0 := rfl; rw [e]; omega⟩
  case round =>
    obtain ⟨a, len, cap, l, O, rfl, rfl, hb, hbw, hv, hls⟩ := hrel
    have HV := Lib.hid hv
    have hl := hb.cap
    have HL := Lib.hid hl.1
    have hlc := hl.2
    clear hv hl
    have hbs := hbw.size
    by_cases hp : 0 < len
    · have hne : l ≠ [] := by intro h0; have := HL.out; rw [h0] at this; simp at this; omega
      obtain ⟨n, hn⟩ : ∃ n, (seqF l).1 = n := ⟨_, rfl⟩
      have hle := seqF_le l hne
      rw [hn, HL.out] at hle
      obtain ⟨hn1, hn2, -⟩ := hle
      have hnc : n ≤ cap := by omega
      have HN := Lib.hid hn
      have HR := Lib.hid (seqF_dec l hne)
      clear hn hne
      obtain ⟨T, hT, lT, sT⟩ := named (l.take n)
      have sT' : T.size = n := by rw [sT, List.length_take, HL.out]; omega
      have hTn : T.size ≤ n := by omega
      have hTO : O.size + T.size + 3 * (len - n) ≤ 3 * len0 := by omega
      have hBO : O.size + 3 + 3 * (len - n) ≤ 3 * len0 := by omega
      have LT := Lib.hid lT
      have HT := Lib.hid hT
      clear hT lT sT sT'
      cases hf : (seqF l).2 with
      | false =>
        have HF := Lib.hid hf
        clear hf hTn hTO
        have HV2 : Hid ((O ++ ⟨#[239, 191, 189]⟩ : ByteArray).data.toList ++ dec0 (l.drop n) = dec l0) := Lib.hid (by
          rw [← HV.out, HR.out, HF.out, HN.out, app_list, List.append_assoc]; rfl)
        have hsz : (O ++ ⟨#[239, 191, 189]⟩ : ByteArray).size = O.size + 3 := by simp; rfl
        have HSZ := Lib.hid hsz
        clear hsz
        by_cases hc : cap = n
        · obtain rfl : len = n := by omega
          obtain rfl : cap = len := hc
          go_wp2_with (go_at_call 25; refine (first_any l a _ cap cap hb (by omega) (by omega)).mono ?_; rintro e w1 ⟨rfl, hb1⟩; rw [HN.out, HF.out])
          go_roundw
          case rel => exact ⟨a, 0, 0, l.drop cap, _, by simp, rfl, (hb.kept hb1).cutAll, hbw.trans (hb1.mono hbs), HV2.out, by rw [HSZ.out]; omega⟩
          case measure => simp [lenOfV]; omega
        · go_wp2_with (go_at_call 25; refine (first_any l a _ len cap hb (by omega) (by omega)).mono ?_; rintro e w1 ⟨rfl, hb1⟩; rw [HN.out, HF.out])
          go_roundw
          case rel => exact ⟨_, _, _, _, _, rfl, rfl, (hb.kept hb1).cutAdd n (by omega) hn2 hc, hbw.trans (hb1.mono hbs), HV2.out, by rw [HSZ.out]; omega⟩
          case measure => simp [lenOfV]; omega
      | true =>
        have HF := Lib.hid hf
        clear hf hBO
        have HV2 : Hid ((O ++ T).data.toList ++ dec0 (l.drop n) = dec l0) := Lib.hid (by
          rw [← HV.out, HR.out, HF.out, HN.out, app_list, LT.out, List.append_assoc]; simp)
        have HSZ : Hid ((O ++ T).size = O.size + T.size) := Lib.hid (by simp)
        by_cases hc : cap = n
        · obtain rfl : len = n := by omega
          obtain rfl : cap = len := hc
          go_wp2_with (go_at_call 25; refine (first_any l a _ cap cap hb (by omega) (by omega)).mono ?_; rintro e w1 ⟨rfl, hb1⟩; rw [HN.out, HF.out]; have hcv := (((hb.kept hb1).take cap (Nat.le_refl _))).conv; rw [HT.out] at hcv)
          go_roundw
          case rel => exact ⟨a, 0, 0, l.drop cap, _, by simp, rfl, (hb.kept hb1).cutAll, hbw.trans (hb1.mono hbs), HV2.out, by rw [HSZ.out]; omega⟩
          case measure => simp [lenOfV]; omega
        · go_wp2_with (go_at_call 25; refine (first_any l a _ len cap hb (by omega) (by omega)).mono ?_; rintro e w1 ⟨rfl, hb1⟩; rw [HN.out, HF.out]; have hcv := (((hb.kept hb1).take n hn2)).conv; rw [HT.out] at hcv)
          go_roundw
          case rel => exact ⟨_, _, _, _, _, rfl, rfl, (hb.kept hb1).cutAdd n (by omega) hn2 hc, hbw.trans (hb1.mono hbs), HV2.out, by rw [HSZ.out]; omega⟩
          case measure => simp [lenOfV]; omega
    · go_wp2
      go_ret
      have h0 : l = [] := List.eq_nil_of_length_eq_zero (by have := HL.out; omega)
      exact ⟨ret_str (by have := HV.out; rw [h0, dec0_nil, List.append_nil] at this; rw [list_str this.symm]), hbw⟩

set_option maxRecDepth 100000 in
set_option maxHeartbeats 2000000 in
theorem refDec_mark (a0 : Option Addr) (len0 cap0 : Nat) (l0 : List UInt8) (w : World) (h : IsBytes w (.slice a0 len0 cap0) l0) (hm : len0 ≤ 1099511627776) (h3 : 3 ≤ len0) (g0 : (l0.getD 0 0).toNat = 239) (g1 : (l0.getD 1 0).toNat = 187) (g2 : (l0.getD 2 0).toNat = 191) (hc3 : cap0 ≠ 3) :
    Calls Try.prog 12 #[.slice a0 len0 cap0] w fun e w' => e = .returned (.string ⟨(dec l0).toArray⟩) ∧ Below w.heap.size w w' := by
  obtain ⟨x, rfl, -⟩ := h.cell (by omega)
  have hl0 := h.cap
  have c0 : w.cell? x = some (.int .u8 ((l0.getD 0 0).toNat : Int)) := by have := h.cellAt 0 (by omega); rwa [show x.add 0 = x by simp [Addr.add]] at this
  have c1 : w.cell? ⟨x.block, x.off + 1, none⟩ = some (.int .u8 ((l0.getD 1 0).toNat : Int)) := by have := h.cellAt 1 (by omega); rwa [add_pos x 1 (by omega)] at this
  have c2 : w.cell? ⟨x.block, x.off + 2, none⟩ = some (.int .u8 ((l0.getD 2 0).toNat : Int)) := by have := h.cellAt 2 (by omega); rwa [add_pos x 2 (by omega)] at this
  have HM := Lib.hid (mark_test l0 (by omega))
  have t0 : (((l0.getD 0 0).toNat : Int) == 239) = true := by rw [beq_iff_eq]; omega
  have t1 : (((l0.getD 1 0).toNat : Int) == 187) = true := by rw [beq_iff_eq]; omega
  have t2 : (((l0.getD 2 0).toNat : Int) == 191) = true := by rw [beq_iff_eq]; omega
  have H0 : Hid (dec l0 = dec0 (l0.drop 3)) := Lib.hid (dec_mark l0 (by rw [HM.out, decide_eq_true_iff]; omega))
  have hcap0 := hl0.2
  clear hl0 HM g0 g1 g2
  generalize (l0.getD 0 0).toNat = b0 at c0 t0
  generalize (l0.getD 1 0).toNat = b1 at c1 t1
  generalize (l0.getD 2 0).toNat = b2 at c2 t2
  have t9 : decide ((3 : Int) ≤ (len0 : Int)) = true := decide_eq_true (by omega)
  go_enter Try.func12, Try.ntmps12
  go_wp2_with (fail)
  clear t0 t1 t2 t9
  go_loopw [0, 3] (fun v o wr => ∃ (a : Option Addr) (len cap : Nat) (l : List UInt8) (O : ByteArray), v = .slice a len cap ∧ o = .string O ∧ IsBytes wr (.slice a len cap) l ∧ Below w.heap.size w wr ∧ O.data.toList ++ dec0 l = dec l0 ∧ O.size + 3 * len ≤ 3 * len0) (fun v _ _ => lenOfV v)
  case atStart => exact ⟨_, _, _, l0.drop 3, ⟨#[]⟩, rfl, rfl, h.cut 3 (by omega) h3 hc3, Below.refl _ _, by rw [H0.out]; rfl, by have e : (ByteArray.mk #[]).size = 0 := rfl; rw [e]; omega⟩
  case round =>
    obtain ⟨a, len, cap, l, O, rfl, rfl, hb, hbw, hv, hls⟩ := hrel
    have HV := Lib.hid hv
    have hl := hb.cap
    have HL := Lib.hid hl.1
    have hlc := hl.2
    clear hv hl
    have hbs := hbw.size
    by_cases hp : 0 < len
    · have hne : l ≠ [] := by intro h0; have := HL.out; rw [h0] at this; simp at this; omega
      obtain ⟨n, hn⟩ : ∃ n, (seqF l).1 = n := ⟨_, rfl⟩
      have hle := seqF_le l hne
      rw [hn, HL.out] at hle
      obtain ⟨hn1, hn2, -⟩ := hle
      have hnc : n ≤ cap := by omega
      have HN := Lib.hid hn
      have HR := Lib.hid (seqF_dec l hne)
      clear hn hne
      obtain ⟨T, hT, lT, sT⟩ := named (l.take n)
      have sT' : T.size = n := by rw [sT, List.length_take, HL.out]; omega
      have hTn : T.size ≤ n := by omega
      have hTO : O.size + T.size + 3 * (len - n) ≤ 3 * len0 := by omega
      have hBO : O.size + 3 + 3 * (len - n) ≤ 3 * len0 := by omega
      have LT := Lib.hid lT
      have HT := Lib.hid hT
      clear hT lT sT sT'
      cases hf : (seqF l).2 with
      | false =>
        have HF := Lib.hid hf
        clear hf hTn hTO
        have HV2 : Hid ((O ++ ⟨#[239, 191, 189]⟩ : ByteArray).data.toList ++ dec0 (l.drop n) = dec l0) := Lib.hid (by
          rw [← HV.out, HR.out, HF.out, HN.out, app_list, List.append_assoc]; rfl)
        have hsz : (O ++ ⟨#[239, 191, 189]⟩ : ByteArray).size = O.size + 3 := by simp; rfl
        have HSZ := Lib.hid hsz
        clear hsz
        by_cases hc : cap = n
        · obtain rfl : len = n := by omega
          obtain rfl : cap = len := hc
          go_wp2_with (go_at_call 25; refine (first_any l a _ cap cap hb (by omega) (by omega)).mono ?_; rintro e w1 ⟨rfl, hb1⟩; rw [HN.out, HF.out])
          go_roundw
          case rel => exact ⟨a, 0, 0, l.drop cap, _, by simp, rfl, (hb.kept hb1).cutAll, hbw.trans (hb1.mono hbs), HV2.out, by rw [HSZ.out]; omega⟩
          case measure => simp [lenOfV]; omega
        · go_wp2_with (go_at_call 25; refine (first_any l a _ len cap hb (by omega) (by omega)).mono ?_; rintro e w1 ⟨rfl, hb1⟩; rw [HN.out, HF.out])
          go_roundw
          case rel => exact ⟨_, _, _, _, _, rfl, rfl, (hb.kept hb1).cutAdd n (by omega) hn2 hc, hbw.trans (hb1.mono hbs), HV2.out, by rw [HSZ.out]; omega⟩
          case measure => simp [lenOfV]; omega
      | true =>
        have HF := Lib.hid hf
        clear hf hBO
        have HV2 : Hid ((O ++ T).data.toList ++ dec0 (l.drop n) = dec l0) := Lib.hid (by
          rw [← HV.out, HR.out, HF.out, HN.out, app_list, LT.out, List.append_assoc]; simp)
        have HSZ : Hid ((O ++ T).size = O.size + T.size) := Lib.hid (by simp)
        by_cases hc : cap = n
        · obtain rfl : len = n := by omega
          obtain rfl : cap = len := hc
          go_wp2_with (go_at_call 25; refine (first_any l a _ cap cap hb (by omega) (by omega)).mono ?_; rintro e w1 ⟨rfl, hb1⟩; rw [HN.out, HF.out]; have hcv := (((hb.kept hb1).take cap (Nat.le_refl _))).conv; rw [HT.out] at hcv)
          go_roundw
          case rel => exact ⟨a, 0, 0, l.drop cap, _, by simp, rfl, (hb.kept hb1).cutAll, hbw.trans (hb1.mono hbs), HV2.out, by rw [HSZ.out]; omega⟩
          case measure => simp [lenOfV]; omega
        · go_wp2_with (go_at_call 25; refine (first_any l a _ len cap hb (by omega) (by omega)).mono ?_; rintro e w1 ⟨rfl, hb1⟩; rw [HN.out, HF.out]; have hcv := (((hb.kept hb1).take n hn2)).conv; rw [HT.out] at hcv)
          go_roundw
          case rel => exact ⟨_, _, _, _, _, rfl, rfl, (hb.kept hb1).cutAdd n (by omega) hn2 hc, hbw.trans (hb1.mono hbs), HV2.out, by rw [HSZ.out]; omega⟩
          case measure => simp [lenOfV]; omega
    · go_wp2
      go_ret
      have h0 : l = [] := List.eq_nil_of_length_eq_zero (by have := HL.out; omega)
      exact ⟨ret_str (by have := HV.out; rw [h0, dec0_nil, List.append_nil] at this; rw [list_str this.symm]), hbw⟩

set_option maxRecDepth 100000 in
set_option maxHeartbeats 2000000 in
theorem refDec_mark3 (a0 : Option Addr) (l0 : List UInt8) (w : World) (h : IsBytes w (.slice a0 3 3) l0) (_h3 : 3 ≤ 3) (g0 : (l0.getD 0 0).toNat = 239) (g1 : (l0.getD 1 0).toNat = 187) (g2 : (l0.getD 2 0).toNat = 191) :
    Calls Try.prog 12 #[.slice a0 3 3] w fun e w' => e = .returned (.string ⟨(dec l0).toArray⟩) ∧ Below w.heap.size w w' := by
  obtain ⟨x, rfl, -⟩ := h.cell (by omega)
  have hl0 := h.cap
  have c0 : w.cell? x = some (.int .u8 ((l0.getD 0 0).toNat : Int)) := by have := h.cellAt 0 (by omega); rwa [show x.add 0 = x by simp [Addr.add]] at this
  have c1 : w.cell? ⟨x.block, x.off + 1, none⟩ = some (.int .u8 ((l0.getD 1 0).toNat : Int)) := by have := h.cellAt 1 (by omega); rwa [add_pos x 1 (by omega)] at this
  have c2 : w.cell? ⟨x.block, x.off + 2, none⟩ = some (.int .u8 ((l0.getD 2 0).toNat : Int)) := by have := h.cellAt 2 (by omega); rwa [add_pos x 2 (by omega)] at this
  have HM := Lib.hid (mark_test l0 (by omega))
  have t0 : (((l0.getD 0 0).toNat : Int) == 239) = true := by rw [beq_iff_eq]; omega
  have t1 : (((l0.getD 1 0).toNat : Int) == 187) = true := by rw [beq_iff_eq]; omega
  have t2 : (((l0.getD 2 0).toNat : Int) == 191) = true := by rw [beq_iff_eq]; omega
  have H0 : Hid (dec l0 = dec0 (l0.drop 3)) := Lib.hid (dec_mark l0 (by rw [HM.out, decide_eq_true_iff]; omega))
  clear hl0 HM g0 g1 g2
  generalize (l0.getD 0 0).toNat = b0 at c0 t0
  generalize (l0.getD 1 0).toNat = b1 at c1 t1
  generalize (l0.getD 2 0).toNat = b2 at c2 t2
  go_enter Try.func12, Try.ntmps12
  go_wp2_with (fail)
  clear t0 t1 t2
  go_loopw [0, 3] (fun v o wr => ∃ (a : Option Addr) (len cap : Nat) (l : List UInt8) (O : ByteArray), v = .slice a len cap ∧ o = .string O ∧ IsBytes wr (.slice a len cap) l ∧ Below w.heap.size w wr ∧ O.data.toList ++ dec0 l = dec l0 ∧ O.size + 3 * len ≤ 3 * 3) (fun v _ _ => lenOfV v)
  case atStart => exact ⟨_, 0, 0, l0.drop 3, ⟨#[]⟩, rfl, rfl, h.cutAll, Below.refl _ _, by rw [H0.out]; rfl, by have e : (ByteArray.mk #[]).size = 0 := rfl; rw [e]; omega⟩
  case round =>
    obtain ⟨a, len, cap, l, O, rfl, rfl, hb, hbw, hv, hls⟩ := hrel
    have HV := Lib.hid hv
    have hl := hb.cap
    have HL := Lib.hid hl.1
    have hlc := hl.2
    clear hv hl
    have hbs := hbw.size
    by_cases hp : 0 < len
    · have hne : l ≠ [] := by intro h0; have := HL.out; rw [h0] at this; simp at this; omega
      obtain ⟨n, hn⟩ : ∃ n, (seqF l).1 = n := ⟨_, rfl⟩
      have hle := seqF_le l hne
      rw [hn, HL.out] at hle
      obtain ⟨hn1, hn2, -⟩ := hle
      have hnc : n ≤ cap := by omega
      have HN := Lib.hid hn
      have HR := Lib.hid (seqF_dec l hne)
      clear hn hne
      obtain ⟨T, hT, lT, sT⟩ := named (l.take n)
      have sT' : T.size = n := by rw [sT, List.length_take, HL.out]; omega
      have hTn : T.size ≤ n := by omega
      have hTO : O.size + T.size + 3 * (len - n) ≤ 3 * 3 := by omega
      have hBO : O.size + 3 + 3 * (len - n) ≤ 3 * 3 := by omega
      have LT := Lib.hid lT
      have HT := Lib.hid hT
      clear hT lT sT sT'
      cases hf : (seqF l).2 with
      | false =>
        have HF := Lib.hid hf
        clear hf hTn hTO
        have HV2 : Hid ((O ++ ⟨#[239, 191, 189]⟩ : ByteArray).data.toList ++ dec0 (l.drop n) = dec l0) := Lib.hid (by
          rw [← HV.out, HR.out, HF.out, HN.out, app_list, List.append_assoc]; rfl)
        have hsz : (O ++ ⟨#[239, 191, 189]⟩ : ByteArray).size = O.size + 3 := by simp; rfl
        have HSZ := Lib.hid hsz
        clear hsz
        by_cases hc : cap = n
        · obtain rfl : len = n := by omega
          obtain rfl : cap = len := hc
          go_wp2_with (go_at_call 25; refine (first_any l a _ cap cap hb (by omega) (by omega)).mono ?_; rintro e w1 ⟨rfl, hb1⟩; rw [HN.out, HF.out])
          go_roundw
          case rel => exact ⟨a, 0, 0, l.drop cap, _, by simp, rfl, (hb.kept hb1).cutAll, hbw.trans (hb1.mono hbs), HV2.out, by rw [HSZ.out]; omega⟩
          case measure => simp [lenOfV]; omega
        · go_wp2_with (go_at_call 25; refine (first_any l a _ len cap hb (by omega) (by omega)).mono ?_; rintro e w1 ⟨rfl, hb1⟩; rw [HN.out, HF.out])
          go_roundw
          case rel => exact ⟨_, _, _, _, _, rfl, rfl, (hb.kept hb1).cutAdd n (by omega) hn2 hc, hbw.trans (hb1.mono hbs), HV2.out, by rw [HSZ.out]; omega⟩
          case measure => simp [lenOfV]; omega
      | true =>
        have HF := Lib.hid hf
        clear hf hBO
        have HV2 : Hid ((O ++ T).data.toList ++ dec0 (l.drop n) = dec l0) := Lib.hid (by
          rw [← HV.out, HR.out, HF.out, HN.out, app_list, LT.out, List.append_assoc]; simp)
        have HSZ : Hid ((O ++ T).size = O.size + T.size) := Lib.hid (by simp)
        by_cases hc : cap = n
        · obtain rfl : len = n := by omega
          obtain rfl : cap = len := hc
          go_wp2_with (go_at_call 25; refine (first_any l a _ cap cap hb (by omega) (by omega)).mono ?_; rintro e w1 ⟨rfl, hb1⟩; rw [HN.out, HF.out]; have hcv := (((hb.kept hb1).take cap (Nat.le_refl _))).conv; rw [HT.out] at hcv)
          go_roundw
          case rel => exact ⟨a, 0, 0, l.drop cap, _, by simp, rfl, (hb.kept hb1).cutAll, hbw.trans (hb1.mono hbs), HV2.out, by rw [HSZ.out]; omega⟩
          case measure => simp [lenOfV]; omega
        · go_wp2_with (go_at_call 25; refine (first_any l a _ len cap hb (by omega) (by omega)).mono ?_; rintro e w1 ⟨rfl, hb1⟩; rw [HN.out, HF.out]; have hcv := (((hb.kept hb1).take n hn2)).conv; rw [HT.out] at hcv)
          go_roundw
          case rel => exact ⟨_, _, _, _, _, rfl, rfl, (hb.kept hb1).cutAdd n (by omega) hn2 hc, hbw.trans (hb1.mono hbs), HV2.out, by rw [HSZ.out]; omega⟩
          case measure => simp [lenOfV]; omega
    · go_wp2
      go_ret
      have h0 : l = [] := List.eq_nil_of_length_eq_zero (by have := HL.out; omega)
      exact ⟨ret_str (by have := HV.out; rw [h0, dec0_nil, List.append_nil] at this; rw [list_str this.symm]), hbw⟩

/-- Decode: bytes as signs, by the document -/
theorem refDec_any (a0 : Option Addr) (len0 cap0 : Nat) (l0 : List UInt8) (w : World) (h : IsBytes w (.slice a0 len0 cap0) l0) (hm : len0 ≤ 1099511627776) :
    Calls Try.prog 12 #[.slice a0 len0 cap0] w fun e w' => e = .returned (.string ⟨(dec l0).toArray⟩) ∧ Below w.heap.size w w' := by
  have hl := h.cap
  by_cases h3 : len0 < 3
  · exact refDec_short a0 len0 cap0 l0 w h hm h3
  have h3' : 3 ≤ len0 := by omega
  by_cases g0 : (l0.getD 0 0).toNat = 239
  · by_cases g1 : (l0.getD 1 0).toNat = 187
    · by_cases g2 : (l0.getD 2 0).toNat = 191
      · by_cases hc : cap0 = 3
        · obtain rfl : len0 = 3 := by omega
          subst hc
          exact refDec_mark3 a0 l0 w h h3' g0 g1 g2
        · exact refDec_mark a0 len0 cap0 l0 w h hm h3' g0 g1 g2 hc
      · exact refDec_no2 a0 len0 cap0 l0 w h hm h3' g0 g1 g2
    · exact refDec_no1 a0 len0 cap0 l0 w h hm h3' g0 g1
  · exact refDec_no0 a0 len0 cap0 l0 w h hm h3' g0

end Go.Proofs.Ytafghfljbelgdaa
