/-
  What the document's Right and Decode of layer 1 answer, for every argument.
-/
import Derived.Test.YtnbafhaajckdcaaDoorUtfRefSeq
namespace Go.Proofs.YtnbafhaajckdcaaDoor
open Go.RowKit Go.Lib

theorem seqF_le (l : List UInt8) (hne : l ≠ []) : 1 ≤ (seqF l).1 ∧ (seqF l).1 ≤ l.length ∧ (seqF l).1 ≤ 4 := by
  have h1 := begL_ge l
  have h2 := begL_le l hne
  have h3 := decodeL_width l
  have h4 := width_le l hne
  unfold seqF
  cases hb : brk l with
  | true => rw [if_pos rfl]; exact ⟨h1, h2.1, by simp only; omega⟩
  | false =>
    rw [if_neg (by simp)]
    refine ⟨h3, h4, ?_⟩
    have := width_enc l hne hb
    have := (enc_len ((decodeL l).1 : Int)).2
    simp only; omega
theorem seqF_dec (l : List UInt8) (hne : l ≠ []) : dec0 l = (if (seqF l).2 then l.take (seqF l).1 else badL) ++ dec0 (l.drop (seqF l).1) := by
  rw [dec0_step l hne]
  unfold seqF
  cases hb : brk l <;> rfl
theorem seqF_right (l : List UInt8) (hne : l ≠ []) : validD l = ((seqF l).2 && validD (l.drop (seqF l).1)) := by
  rw [validD_brk l hne]
  unfold seqF
  cases hb : brk l <;> simp

/-- a list cut off ahead, whatever room it has -/
theorem IsBytes.cutAny {w : World} {a : Option Addr} {len cap : Nat} {l : List UInt8} (h : IsBytes w (.slice a len cap) l) (k : Nat) (hk0 : 0 < k) (hk : k ≤ len) :
    IsBytes w (.slice (if cap = k then a else Option.map (fun x => { block := x.block, off := x.off + k }) a) (len - k) (cap - k)) (l.drop k) := by
  have hl := h.cap
  by_cases hc : cap = k
  · rw [if_pos hc]
    have e : l.drop k = [] := List.drop_eq_nil_of_le (by omega)
    rw [e, show len - k = 0 by omega, show cap - k = 0 by omega]
    exact h.none_left
  · rw [if_neg hc]; exact h.cut k hk0 hk hc

/-- the same, as the walk spells it where k is no numeral -/
theorem IsBytes.cutAdd {w : World} {a : Option Addr} {len cap : Nat} {l : List UInt8} (h : IsBytes w (.slice a len cap) l) (k : Nat) (hk0 : 0 < k) (hk : k ≤ len) (hc : cap ≠ k) :
    IsBytes w (.slice (Option.map (fun x => x.add k) a) (len - k) (cap - k)) (l.drop k) := by
  have := h.cut k hk0 hk hc
  have e : (fun x : Addr => x.add k) = (fun x => { block := x.block, off := x.off + k }) := funext fun x => add_pos x k hk0
  rw [e]; exact this
theorem IsBytes.cutAll {w : World} {a : Option Addr} {len : Nat} {l : List UInt8} (h : IsBytes w (.slice a len len) l) : IsBytes w (.slice a 0 0) (l.drop len) := by
  have e : l.drop len = [] := List.drop_eq_nil_of_le (by have := h.cap.1; omega)
  rw [e]; exact h.none_left

def lenOfV : Value → Nat
  | .slice _ n _ => n
  | _ => 0

set_option maxRecDepth 100000 in
set_option maxHeartbeats 1000000 in
theorem refRight_any (s : ByteArray) (w : World) (hm : s.size ≤ 1099511627776) :
    Calls Tryd.prog 17 #[.string s] w fun e w' => e = .returned (.bool (validD s.data.toList)) ∧ Below w.heap.size w w' := by
  have kc := fun (wx : World) (s : ByteArray) => run_bytes_of_string (P := Tryd.prog) wx 9 49 5 s Tryd.underlying9 Tryd.underlying49 Tryd.underlying5
  have b0 := isBytes_conv w s s.size ((bytesRow s (grownCap w s.size 0 5)).size, (bytesRow s (grownCap w s.size 0 5)).size + 1) rfl (by unfold maxLen; omega)
  go_enter Tryd.func17, Tryd.ntmps17
  go_wp2_with (fail)
  clear kc
  go_loopw [3] (fun v wr => ∃ (a : Option Addr) (len cap : Nat) (l : List UInt8), v = .slice a len cap ∧ IsBytes wr (.slice a len cap) l ∧ Below w.heap.size w wr ∧ validD l = validD s.data.toList ∧ len ≤ s.size) (fun v _ => lenOfV v)
  case atStart => exact ⟨_, _, _, _, rfl, b0, (((Below.refl _ w).alloc (Nat.le_refl _) _).drew), rfl, Nat.le_refl _⟩
  case round =>
    obtain ⟨a, len, cap, l, rfl, hb, hbw, hv, hls⟩ := hrel
    have HV := Lib.hid hv
    have hl := hb.cap
    have HL := Lib.hid hl.1
    have hlc := hl.2
    clear hv hl b0
    have hbs := hbw.size
    by_cases hp : 0 < len
    · have hne : l ≠ [] := by intro h0; have := HL.out; rw [h0] at this; simp at this; omega
      obtain ⟨n, hn⟩ : ∃ n, (seqF l).1 = n := ⟨_, rfl⟩
      have hle := seqF_le l hne
      rw [hn, HL.out] at hle
      obtain ⟨hn1, hn2, -⟩ := hle
      have HN := Lib.hid hn
      have HR := Lib.hid (seqF_right l hne)
      clear hn hne
      cases hf : (seqF l).2 with
      | false =>
        have HF := Lib.hid hf
        clear hf
        go_wp2_with (go_at_call 27; refine (first_any l a _ len cap hb (by omega) (by omega)).mono ?_; rintro e w1 ⟨rfl, hb1⟩; rw [HN.out, HF.out])
        go_ret
        exact ⟨ret_bool (by rw [← HV.out, HR.out, HF.out]; rfl), hbw.trans (hb1.mono hbs)⟩
      | true =>
        have HF := Lib.hid hf
        clear hf
        have HV2 : Hid (validD (l.drop n) = validD s.data.toList) := Lib.hid (by rw [← HV.out, HR.out, HF.out, HN.out]; simp)
        by_cases hc : cap = n
        · obtain rfl : len = n := by omega
          obtain rfl : cap = len := hc
          go_wp2_with (go_at_call 27; refine (first_any l a _ cap cap hb (by omega) (by omega)).mono ?_; rintro e w1 ⟨rfl, hb1⟩; rw [HN.out, HF.out])
          go_roundw
          case rel => exact ⟨a, 0, 0, l.drop cap, by simp, (hb.kept hb1).cutAll, hbw.trans (hb1.mono hbs), HV2.out, Nat.zero_le _⟩
          case measure => simp [lenOfV]; omega
        · go_wp2_with (go_at_call 27; refine (first_any l a _ len cap hb (by omega) (by omega)).mono ?_; rintro e w1 ⟨rfl, hb1⟩; rw [HN.out, HF.out])
          go_roundw
          case rel => exact ⟨_, _, _, _, rfl, (hb.kept hb1).cutAdd n (by omega) hn2 hc, hbw.trans (hb1.mono hbs), HV2.out, by omega⟩
          case measure => simp [lenOfV]; omega
    · go_wp2
      go_ret
      have h0 : l = [] := List.eq_nil_of_length_eq_zero (by have := HL.out; omega)
      exact ⟨ret_bool (by rw [← HV.out, h0, validD_nil]), hbw⟩

/-- a list cut off behind -/
theorem IsBytes.take {w : World} {a : Option Addr} {len cap : Nat} {l : List UInt8} (h : IsBytes w (.slice a len cap) l) (k : Nat) (hk : k ≤ len) : IsBytes w (.slice a k cap) (l.take k) := by
  have hl := h.cap
  have e : (l.take k).length = k := by rw [List.length_take]; omega
  rcases h with ⟨hv, rfl⟩ | ⟨x, c, hv, h1, h2, h3⟩
  · injection hv with h4 h5 h6; subst h4; subst h5; subst h6
    obtain rfl : k = 0 := by omega
    exact .inl ⟨rfl, rfl⟩
  · injection hv with h4 h5 h6; subst h4; subst h6
    refine .inr ⟨x, cap, by rw [e], by rw [e]; omega, h2, fun i hi => ?_⟩
    rw [List.getElem_take]
    exact h3 i (by rw [e] at hi; omega)

theorem mark_test (l : List UInt8) (h3 : 3 ≤ l.length) : hasPrefix l markL = decide ((l.getD 0 0).toNat = 239 ∧ (l.getD 1 0).toNat = 187 ∧ (l.getD 2 0).toNat = 191) := by
  match l, h3 with
  | x :: y :: z :: t, _ =>
    rw [Bool.eq_iff_iff, decide_eq_true_iff]
    unfold hasPrefix
    rw [List.isPrefixOf_iff_prefix]
    simp only [markL, getD0, getD_s]
    constructor
    · rintro ⟨u, hu⟩
      simp only [List.cons_append, List.nil_append, List.cons.injEq] at hu
      exact ⟨by rw [← hu.1]; rfl, by rw [← hu.2.1]; rfl, by rw [← hu.2.2.1]; rfl⟩
    · rintro ⟨h1, h2, h3⟩
      have e1 : x = 239 := UInt8.toNat_inj.1 h1
      have e2 : y = 187 := UInt8.toNat_inj.1 h2
      have e3 : z = 191 := UInt8.toNat_inj.1 h3
      subst e1; subst e2; subst e3
      exact ⟨t, rfl⟩
theorem no_mark_short (l : List UInt8) (h3 : l.length < 3) : hasPrefix l markL = false := by
  rw [Bool.eq_false_iff]
  intro hp
  obtain ⟨t, rfl⟩ := (hasMark _).1 hp
  simp [markL] at h3
  omega

end Go.Proofs.YtnbafhaajckdcaaDoor
