/-
  What the document's functions of layer 6 answer, for every input: a name by a number.
-/
import Derived.Test.YtdpgdcbclgdjaaaDoorNamFind
namespace Go.Proofs.YtdpgdcbclgdjaaaDoor
open Go.RowKit Go.Lib

theorem some_byte (T : ByteArray) (L : Txt) (hT : T.data.toList = L) (i : Nat) (h : i < T.size) : L[i]? = some T[i] := by
  rw [← hT, List.getElem?_eq_getElem (by rw [← Lib.size_eq]; exact h), at_list T i h]
theorem count_flat : ∀ rs : List Ln, (∀ r ∈ rs, Good r) → (flatN rs).count 10 = rs.length
  | [], _ => rfl
  | r :: rs, h => by
    have ih := count_flat rs (fun x hx => h x (List.mem_cons_of_mem _ hx))
    rw [flatN, List.count_append, List.count_eq_zero_of_not_mem (h r List.mem_cons_self).line, List.count_cons, ih]
    simp
theorem nm_count : nmT.data.toList.count 10 + 1 = 2231 := by
  have h := count_flat nmRows nm_valid.1
  rw [nm_flatN, List.count_append, nm_len] at h
  simpa using h

/-- what the walk from line to line asks of the table -/
structure NthI (T : ByteArray) (M : Nat) (b : Nat → Nat) (key : Txt) : Prop where
  zero : b 0 = 0
  up : ∀ j, j < M → b j < b (j + 1)
  le : ∀ j, j ≤ M → b j ≤ b M
  top : b M + key.length < T.size
  ten : ∀ (j i : Nat) (h : i < T.size), j < M → b j ≤ i → i < b (j + 1) → (((T[i].toNat : Nat) : Int) = 10 ↔ i + 1 = b (j + 1))
  ne : ∀ (e : Nat) (h : e < T.size), b M ≤ e → e < b M + key.length → ((T[e].toNat : Nat) : Int) ≠ 32
  sp : ∀ (e : Nat) (h : e < T.size), e = b M + key.length → ((T[e].toNat : Nat) : Int) = 32
  cut : ∀ p l : Nat, p = b M → l = b M + key.length → T.extract p l = ⟨key.toArray⟩

theorem nthI {T : ByteArray} (hT : T.data.toList = flatL nmRows) (M : Nat) (hM : M < nmRows.length) : NthI T M (offN nmRows) nmRows[M].1 := by
  have hTs : T.size = (flatL nmRows).length := by rw [Lib.size_eq, hT]
  have hv := nm_valid
  have h1 := offN_lt_to nmRows M nmRows.length hM (Nat.le_refl _)
  rw [toN_all, lineL_len] at h1
  obtain ⟨z, h2, -⟩ := drop_line nmRows M hM
  have hg := hv.1 _ (List.getElem_mem hM)
  have hb : ∀ q, (flatL nmRows)[offN nmRows M + q]? = (lineL nmRows[M] ++ z)[q]? := by intro q; rw [← h2, List.getElem?_drop]
  have htop : offN nmRows M + nmRows[M].1.length < T.size := by omega
  refine ⟨offN_zero _, ?_, fun j hj => offN_le nmRows hj, htop, ?_, ?_, ?_, ?_⟩
  · intro j hj
    have := offN_succ nmRows j (by omega)
    omega
  · intro j i h hj hi1 hi2
    have h3 := byte_in nmRows hv.1 j i (by omega) hi1 hi2 (by omega)
    rw [some_byte T _ hT i h] at h3
    rw [← h3]
    constructor
    · intro e; rw [u8_eq _ 10 (by decide) e]; rfl
    · intro e; rw [Option.some.inj e]; rfl
  · intro e h he1 he2
    obtain ⟨q, rfl⟩ := Nat.exists_eq_add_of_le he1
    have h3 := hb q
    rw [some_byte T _ hT _ h, lineL, List.append_assoc, List.getElem?_append_left (by omega), List.getElem?_eq_getElem (by omega)] at h3
    intro e32
    have h4 := Option.some.inj h3
    have h5 : T[offN nmRows M + q] = 32 := u8_eq _ 32 (by decide) e32
    apply hg.2.1
    rw [← h5, h4]
    exact List.getElem_mem _
  · intro e he hee
    subst hee
    have h3 := hb nmRows[M].1.length
    rw [some_byte T _ hT _ htop, lineL, List.append_assoc, List.getElem?_append_right (Nat.le_refl _), Nat.sub_self] at h3
    have h4 := Option.some.inj h3
    rw [h4]; rfl
  · rintro p l rfl rfl
    refine str_ext ?_
    rw [extract_data, hT, h2, lineL, List.toList_toArray, List.append_assoc, show offN nmRows M + nmRows[M].1.length - offN nmRows M = nmRows[M].1.length by omega, List.take_left]

theorem count_snoc (T : ByteArray) (i : Nat) (h : i < T.size) : (T.data.toList.take (i + 1)).count 10 = (T.data.toList.take i).count 10 + if ((T[i].toNat : Nat) : Int) = 10 then 1 else 0 := by
  rw [List.take_succ_eq_append_getElem (by rw [← Lib.size_eq]; exact h), List.count_append, at_list T i h]
  congr 1
  by_cases e : ((T[i].toNat : Nat) : Int) = 10
  · rw [if_pos e, u8_eq _ 10 (by decide) e]; rfl
  · rw [if_neg e, List.count_singleton]
    rw [if_neg]
    rw [beq_iff_eq]
    intro e2; exact e (by rw [e2]; rfl)

set_option maxHeartbeats 8000000 in
set_option maxRecDepth 1000000 in
theorem refNth_any (n : Int) (w : World) (hn : 0 ≤ n ∧ n ≤ 65535) :
    ∃ r ∈ nmRows, Calls Tryd.prog 14 #[.int .i64 n] w fun e w' => e = .returned (strV r.1) ∧ w = w' := by
  obtain ⟨M, hM⟩ : ∃ M : Nat, n % 2231 = (M : Int) := ⟨(n % 2231).toNat, by omega⟩
  have hMl : M < nmRows.length := by rw [nm_len]; omega
  refine ⟨nmRows[M], List.getElem_mem hMl, ?_⟩
  refine calls_of_wp Tryd.func14 rfl ?_
  generalize hT : (ByteArray.mk (List.toArray (List.append _ _))) = T
  have HT : IsNm T := ⟨by rw [← hT]; kernel_rfl⟩
  clear hT
  have hTs := HT.size
  have hI := nthI HT.list M hMl
  have hC : T.data.toList.count 10 + 1 = 2231 := by rw [← HT.eq]; exact nm_count
  generalize offN nmRows = b at hI
  generalize nmRows[M].1 = key at hI ⊢
  have hMu : M ≤ 2230 := by omega
  have HI := Lib.hid hI
  have HC := Lib.hid hC
  have HM := Lib.hid hM
  unfold strV
  clear hC hI hM hMl HT
  simp only [Tryd.ntmps14, List.size_toArray, List.length_cons, List.length_nil, Nat.reduceAdd, Nat.reduceSub, Array.replicate_succ, Array.replicate_zero, List.push_toArray, List.append_toArray, List.nil_append, List.cons_append]
  go_wp2
  go_loopw [3, 5] (fun vm v wr => ∃ i m : Nat, vm = .int .i64 (m : Int) ∧ v = .int .i64 (i : Int) ∧ i ≤ T.size ∧ Hid (m = (T.data.toList.take i).count 10 + 1) ∧ m ≤ i + 1 ∧ w = wr) (fun _ v _ => T.size - (intOf v).toNat)
  case atStart => exact ⟨0, 1, rfl, rfl, Nat.zero_le _, Lib.hid (by simp), by omega, rfl⟩
  case round =>
    obtain ⟨i, m, rfl, rfl, hi, hm, hmi, rfl⟩ := hrel
    by_cases hlt : i < T.size
    · by_cases h10 : ((T[i].toNat : Nat) : Int) = 10
      · have b1 : (((T[i].toNat : Nat) : Int) == 10) = true := by simpa using h10
        have HN : Hid (m + 1 = (T.data.toList.take (i + 1)).count 10 + 1) := Lib.hid (by rw [count_snoc T i hlt, if_pos h10, hm.out])
        clear h10
        go_wp2
        go_roundw
        case rel => exact ⟨i + 1, m + 1, rfl, rfl, by omega, HN, by omega, trivial⟩
        case measure => simp [intOf]; omega
      · have b1 : (((T[i].toNat : Nat) : Int) == 10) = false := by simpa using h10
        have HN : Hid (m = (T.data.toList.take (i + 1)).count 10 + 1) := Lib.hid (by rw [count_snoc T i hlt, if_neg h10, hm.out, Nat.add_zero])
        clear h10
        go_wp2
        go_roundw
        case rel => exact ⟨i + 1, m, rfl, rfl, by omega, HN, by omega, trivial⟩
        case measure => simp [intOf]; omega
    · obtain rfl : m = 2231 := by
        have h1 := hm.out
        rw [List.take_of_length_le (by rw [← Lib.size_eq]; omega), HC.out] at h1
        exact h1
      obtain rfl : i = T.size := by omega
      have hM := HM.out
      have c2 : (((2231 : Nat) : Int)) = 2231 := rfl
      rw [c2]
      clear hm HC c2 hmi
      go_wp2
      clear hM hn hi hlt
      go_loopw [6, 7] (fun vk v wr => ∃ i j d : Nat, vk = .int .i64 (d : Int) ∧ v = .int .i64 (i : Int) ∧ Hid (d + j = M) ∧ Hid (j < M ∧ b j ≤ i ∧ i < b (j + 1) ∨ j = M ∧ i = b M) ∧ i < T.size ∧ w = wr) (fun _ v _ => T.size - (intOf v).toNat)
      case atStart =>
        refine ⟨0, 0, M, by rw [HM.out], rfl, Lib.hid (Nat.add_zero M), Lib.hid ?_, ?_, rfl⟩
        · have h1 := HI.out.zero
          by_cases h0 : 0 < M
          · have := HI.out.up 0 h0; exact .inl ⟨h0, by omega, by omega⟩
          · obtain rfl : M = 0 := by omega
            exact .inr ⟨rfl, h1.symm⟩
        · have := HI.out.top; omega
      case round =>
        obtain ⟨i, j, d, rfl, rfl, hd, hs, hiT, rfl⟩ := hrel
        by_cases hz : d = 0
        · subst hz
          obtain rfl : i = b M := by
            have h1 := hs.out
            have h2 := hd.out
            omega
          have htop := HI.out.top
          have hne := HI.out.ne
          have hsp := HI.out.sp
          have hcut := HI.out.cut
          obtain ⟨p, hp⟩ : ∃ p, b M = p := ⟨_, rfl⟩
          obtain ⟨l, hl⟩ : ∃ l, b M + key.length = l := ⟨_, rfl⟩
          have HCUT := Lib.hid (hcut p l hp.symm hl.symm)
          have HSP := fun h => Lib.hid (hsp l h hl.symm)
          have HNE := fun e h h1 h2 => Lib.hid (hne e h (by rw [hp]; exact h1) (by rw [hl]; exact h2))
          rw [hl] at htop
          have hpl : p ≤ l := by omega
          rw [hp] at hiT ⊢
          clear hd hs HI hne hsp hcut hl hp HM
          go_wp2
          go_loopw [8] (fun v wr => ∃ e : Nat, v = .int .i64 (e : Int) ∧ p ≤ e ∧ e ≤ l ∧ w = wr) (fun v _ => T.size - (intOf v).toNat)
          case atStart => exact ⟨p, rfl, Nat.le_refl _, hpl, rfl⟩
          case round =>
            obtain ⟨e, rfl, he1, he2, rfl⟩ := hrel
            have heT : e < T.size := by omega
            by_cases hlt : e < l
            · have b1 : (((T[e].toNat : Nat) : Int) == 32) = false := by rw [beq_eq_false_iff_ne]; exact (HNE e heT he1 hlt).out
              go_wp2
              go_roundw
              case rel => exact ⟨e + 1, rfl, by omega, by omega, trivial⟩
              case measure => simp [intOf]; omega
            · obtain rfl : e = l := by omega
              have b1 : (((T[e].toNat : Nat) : Int) == 32) = true := by rw [beq_iff_eq]; exact (HSP heT).out
              go_wp2
              go_ret
              exact ⟨ret_str HCUT.out, rfl⟩
        · have hjM : j < M := by have := hd.out; omega
          obtain ⟨h1, h2⟩ : b j ≤ i ∧ i < b (j + 1) := by have := hs.out; omega
          have h3 := HI.out.ten j i hiT hjM h1 h2
          have h4 := HI.out.le (j + 1) hjM
          have h5 := HI.out.top
          obtain ⟨d, rfl⟩ : ∃ d', d = d' + 1 := ⟨d - 1, by omega⟩
          have hdM : d ≤ 2230 := by have := hd.out; omega
          have bd : (((d + 1 : Nat) : Int) == 0) = false := by rw [beq_eq_false_iff_ne]; omega
          by_cases h10 : ((T[i].toNat : Nat) : Int) = 10
          · have b1 : (((T[i].toNat : Nat) : Int) == 10) = true := by simpa using h10
            have h6 := h3.1 h10
            have HS : Hid (j + 1 < M ∧ b (j + 1) ≤ i + 1 ∧ i + 1 < b (j + 1 + 1) ∨ j + 1 = M ∧ i + 1 = b M) := Lib.hid (by
              by_cases e : j + 1 < M
              · have := HI.out.up (j + 1) e; exact .inl ⟨e, by omega, by omega⟩
              · have e2 : j + 1 = M := by omega
                rw [← e2]; exact .inr ⟨rfl, h6⟩)
            have HL : i + 1 < T.size := by omega
            clear h10 h1 h2 h3 h4 h5 h6 hs hz
            go_wp2
            go_roundw
            case rel => exact ⟨i + 1, j + 1, d, by go_num, rfl, Lib.hid (by have := hd.out; omega), HS, HL, trivial⟩
            case measure => simp [intOf]; omega
          · have b1 : (((T[i].toNat : Nat) : Int) == 10) = false := by simpa using h10
            have h6 : ¬ i + 1 = b (j + 1) := fun e => h10 (h3.2 e)
            have HS : Hid (j < M ∧ b j ≤ i + 1 ∧ i + 1 < b (j + 1) ∨ j = M ∧ i + 1 = b M) := Lib.hid (.inl ⟨hjM, by omega, by omega⟩)
            have HL : i + 1 < T.size := by omega
            clear h10 h1 h2 h3 h4 h5 h6 hs hz
            go_wp2
            go_roundw
            case rel => exact ⟨i + 1, j, d + 1, rfl, rfl, hd, HS, HL, trivial⟩
            case measure => simp [intOf]; omega
end Go.Proofs.YtdpgdcbclgdjaaaDoor
