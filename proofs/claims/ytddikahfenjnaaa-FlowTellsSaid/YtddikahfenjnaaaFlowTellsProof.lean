/-
  The law FlowTells of flail/flaillaw18 answers true for every input, and changes nothing that was there. No condition.
-/
import Derived.Test.YtddikahfenjnaaaRows
import Derived.Test.YtddikahfenjnaaaFloLaw
import Derived.Test.YtddikahfenjnaaaFloFew
import Derived.WalkKit
import Derived.ProofKit
import Derived.OpenShut
import Derived.ShutString
import Derived.ChangeOld
import Derived.Below
namespace Go.Proofs.Ytddikahfenjnaaa.flowTells
open Go.ChangeShapes Go.WideShapes Go.ChangeAt Go.RowKit
open Go.ChangeMaps (open_string shut_string)
set_option linter.unusedVariables false

theorem own : ownKnob Try.prog.godebug = none := by kernel_rfl
theorem laidOut : laidOutB Try.prog = true := by kernel_rfl

set_option maxRecDepth 100000 in
set_option maxHeartbeats 4000000 in
theorem walk (a0 : Option Addr) (len0 cap0 : Nat) (l0 : List ActP) (w : World) (w0 : IsActs w a0 len0 cap0 l0) :
    Calls Try.prog 3 #[.slice a0 len0 cap0] w fun e w' => e = .returned (.bool true) ∧ Below w.heap.size w w' := by
  have HL := Lib.hid w0
  have hll := w0.1
  have hm := w0.2.2.1
  have hlc := w0.2.1
  unfold maxLen at hm
  clear w0
  go_enter Try.func3, Try.ntmps3
  go_wp2_with (fail)
  refine (floAwake_any w).mono ?_
  rintro e w1 ⟨rfl, c1⟩
  have B1 := Lib.hid c1
  clear c1
  go_wp2_with (fail)
  refine (refFew18_any a0 len0 cap0 l0 w1 (HL.out.below B1.out (Nat.le_refl _))).mono ?_
  rintro e w2 ⟨⟨few, rfl, hfew⟩, c2⟩
  have B2 := Lib.hid (B1.out.trans (c2.mono B1.out.size))
  have HF := Lib.hid hfew
  clear c2 hfew
  cases few
  · go_wp2
    go_ret
    exact ⟨rfl, B2.out⟩
  obtain ⟨h60, h100⟩ := HF.out rfl
  have H100 := Lib.hid h100
  clear h100 HF
  go_wp2_with (fail)
  refine (newM_any w w2 Emp Lies.emp (Made.none B2.out)).mono ?_
  rintro e w3 ⟨g, rfl, m3⟩
  have M4 := Lib.hid (m3.more (flo_lies g flo0 Lies.emp) ((Below.refl w3.heap.size w3).alloc (Nat.le_refl _) (.cells #[.string ⟨#[]⟩, .int .i64 0, .string ⟨#[]⟩] 29)) (S := RefO w3.heap.size flo0) (F := fun k => k = w3.heap.size) ⟨heap_alloc_new w3 _, fun _ => Iff.rfl⟩ (fun k hk => by omega)).turn
  clear m3
  obtain ⟨r, hr⟩ : ∃ r, w3.heap.size = r := ⟨_, rfl⟩
  rw [hr] at M4
  go_wp2
  clear hr
  go_loopw [7] (fun v wr => ∃ i : Nat, v = .int .i64 (i : Int) ∧ i ≤ len0 ∧ Hid (Flo w wr g (actsF flo0 (l0.take i)) (Sep (RefO r (actsF flo0 (l0.take i))) Emp))) (fun v _ => len0 - (intOf v).toNat)
  case atStart => exact ⟨0, rfl, Nat.zero_le _, Lib.hid (by rw [List.take_zero]; exact M4.out)⟩
  case round =>
    obtain ⟨i, rfl, hi, HM⟩ := hrel
    by_cases hlt : i < len0
    · have hiL : i < l0.length := by omega
      obtain ⟨x, rfl, xc, xo⟩ := HL.out.2.2.2 i hiL
      obtain ⟨x0, x1, x2, x3⟩ := (xc.below HM.out.bel (Nat.le_refl _)).asked
      have hsa : (actsF flo0 (l0.take i)).size + l0[i].s.length ≤ 1073741824 := by
        have := acts_few l0 i (by omega) H100.out
        have := H100.out l0[i] (List.getElem_mem hiL)
        omega
      have hsb := acts_few l0 (i + 1) (by omega) H100.out
      have hstep := acts_step flo0 l0 i hiL
      obtain ⟨G, hG⟩ : ∃ G, actsF flo0 (l0.take i) = G := ⟨_, rfl⟩
      rw [hG] at hstep hsa HM
      have HC := Lib.hid (doesM_any w wr g G (Sep (RefO r G) Emp) ((refO_lies r G).sep Lies.emp) HM.out l0[i] hsa xo)
      obtain ⟨G2, hG2⟩ : ∃ G2, actsF flo0 (l0.take (i + 1)) = G2 := ⟨_, rfl⟩
      rw [hG2] at hstep hsb
      rw [hstep] at HC
      have HD := fun w' h => Lib.hid (refDoM_any w w' r G (Sep (FloO g G2) Emp) (flo_lies g G2 Lies.emp) h l0[i] hsa xo)
      rw [hstep] at HD
      unfold aggA at HC HD
      have HXC := Lib.hid xc
      have HG2 := Lib.hid hG2
      obtain ⟨K, hK⟩ : ∃ K, l0[i].kind = K := ⟨_, rfl⟩
      obtain ⟨S, hS⟩ : ∃ S : ByteArray, (⟨l0[i].s.toArray⟩ : ByteArray) = S := ⟨_, rfl⟩
      obtain ⟨kp, hkp⟩ : ∃ K, l0[i].keep = K := ⟨_, rfl⟩
      obtain ⟨n, hn⟩ : ∃ K, l0[i].n = K := ⟨_, rfl⟩
      have HX0 := Lib.hid (show ∀ u : World, Below w.heap.size w u → u.cell? (x.add (i * 4)) = some (.int .i64 K) ∧ u.cell? ⟨(x.add (i * 4)).block, (x.add (i * 4)).off + 1, none⟩ = some (.string S) ∧ u.cell? ⟨(x.add (i * 4)).block, (x.add (i * 4)).off + 2, none⟩ = some (.bool kp) ∧ u.cell? ⟨(x.add (i * 4)).block, (x.add (i * 4)).off + 3, none⟩ = some (.int .i64 n) from fun u hu => by
        have := (HXC.out.below hu (Nat.le_refl _)).asked
        rw [hK, hS, hkp, hn] at this
        exact this)
      rw [hK, hS, hkp, hn] at HC
      simp only [hK, hS, hkp, hn] at HD
      rw [hK] at x0
      rw [hS] at x1
      rw [hkp] at x2
      rw [hn] at x3
      have CT := fun w' h => Lib.hid (textM_any w w' g G2 (Sep (RefO r G2) Emp) ((refO_lies r G2).sep Lies.emp) h (by omega))
      have HTC := Lib.hid (show ∀ u, Flo w u g G2 (Sep (RefO r G2) Emp) → u.cell? ⟨r, 0, none⟩ = some (.string ⟨G2.told.toArray⟩) from fun u hu => by
        obtain ⟨F, hF, -, -⟩ := hu.rest.first
        exact (floAt_cells hF.1).1)
      obtain ⟨T, hT⟩ : ∃ T : ByteArray, (⟨G2.told.toArray⟩ : ByteArray) = T := ⟨_, rfl⟩
      rw [hT] at CT HTC
      clear hK hS hkp hn xc xo hstep hG hG2 hsa hsb HXC hT
      go_wp2_with (fail)
      refine HC.out.mono ?_
      rintro e w5 ⟨rfl, m5⟩
      obtain ⟨x0, x1, x2, x3⟩ := HX0.out _ m5.bel
      have M5 := Lib.hid m5.turn
      clear m5
      go_wp2_with (fail)
      refine (HD _ M5.out).out.mono ?_
      rintro e w6 ⟨rfl, m6⟩
      have M6 := Lib.hid m6.turn
      clear m6 x0 x1 x2 x3
      have hd : Flo w w6.drew g G2 (Sep (RefO r G2) Emp) ∧ w6.drew.cell? ⟨r, 0, none⟩ = some (.string T) := by
        have := M6.out.below (flo_lies g G2 ((refO_lies r G2).sep Lies.emp)) ((Below.refl w6.heap.size w6).drew)
        exact ⟨this, HTC.out _ this⟩
      have cT : Hid (∀ u, (Flo w u g G2 (Sep (RefO r G2) Emp) ∧ u.cell? ⟨r, 0, none⟩ = some (.string T)) → Calls Try.prog 14 #[.pointer (some g)] u fun e v => e = .returned (.string T) ∧ (Flo w v g G2 (Sep (RefO r G2) Emp) ∧ v.cell? ⟨r, 0, none⟩ = some (.string T))) := Lib.hid fun u h => (CT u h.1).out.mono fun e v h => ⟨h.1, h.2, HTC.out _ h.2⟩
      go_wp2
      go_region_held3 (fun u : World => Flo w u g G2 (Sep (RefO r G2) Emp) ∧ u.cell? ⟨r, 0, none⟩ = some (.string T))
        (first | exact hd | assumption)
        (first
          | (go_at_call 14; (with_reducible refine (cT.out _ ‹_›).mono ?_); rintro e w' ⟨rfl, hb⟩))
      all_goals
        have M7 := Lib.hid hb.1
        clear hb
        go_wp2
        go_roundw
        case rel => exact ⟨i + 1, by go_num, by omega, Lib.hid (by rw [HG2.out]; exact M7.out)⟩
        case measure => simp [intOf]; omega
    · obtain rfl : i = len0 := by omega
      have e1 : l0.take i = l0 := List.take_of_length_le (by omega)
      have hsz := acts_few l0 i (by omega) H100.out
      rw [e1] at HM hsz
      obtain ⟨F, hF⟩ : ∃ F, actsF flo0 l0 = F := ⟨_, rfl⟩
      rw [hF] at HM hsz
      have CT := fun w' h => Lib.hid (textM_any w w' g F (Sep (RefO r F) Emp) ((refO_lies r F).sep Lies.emp) h (by omega))
      have HTC := Lib.hid (show ∀ u, Flo w u g F (Sep (RefO r F) Emp) → u.cell? ⟨r, 0, none⟩ = some (.string ⟨F.told.toArray⟩) from fun u hu => by
        obtain ⟨F', hF', -, -⟩ := hu.rest.first
        exact (floAt_cells hF'.1).1)
      obtain ⟨T, hT⟩ : ∃ T : ByteArray, (⟨F.told.toArray⟩ : ByteArray) = T := ⟨_, rfl⟩
      rw [hT] at CT HTC
      clear hT hsz hF e1 H100 HL
      have hd : Flo w wr.drew g F (Sep (RefO r F) Emp) ∧ wr.drew.cell? ⟨r, 0, none⟩ = some (.string T) := by
        have := HM.out.below (flo_lies g F ((refO_lies r F).sep Lies.emp)) ((Below.refl wr.heap.size wr).drew)
        exact ⟨this, HTC.out _ this⟩
      have cT : Hid (∀ u, (Flo w u g F (Sep (RefO r F) Emp) ∧ u.cell? ⟨r, 0, none⟩ = some (.string T)) → Calls Try.prog 14 #[.pointer (some g)] u fun e v => e = .returned (.string T) ∧ (Flo w v g F (Sep (RefO r F) Emp) ∧ v.cell? ⟨r, 0, none⟩ = some (.string T))) := Lib.hid fun u h => (CT u h.1).out.mono fun e v h => ⟨h.1, h.2, HTC.out _ h.2⟩
      clear CT
      go_wp2
      go_region_held3 (fun u : World => Flo w u g F (Sep (RefO r F) Emp) ∧ u.cell? ⟨r, 0, none⟩ = some (.string T))
        (first | exact hd | assumption)
        (first
          | (go_at_call 14; (with_reducible refine (cT.out _ ‹_›).mono ?_); rintro e w' ⟨rfl, hb⟩))
      all_goals
        go_wp2
        go_ret
        exact ⟨ret_bool (by simp), hb.1.bel⟩

set_option maxRecDepth 100000 in
theorem lifted (os : Os) (started : os.Started) (H : Type) (enc : TypeId × Value → H) :
    ReturnsInHanded {} Try.checked os 3 .any (Rows.flowTellsSpec.pre6 enc Try.prog Try.f3 Rows.flowTellsRow.domain false) (Rows.flowTellsSpec.post enc Try.prog Try.f3 false true false false) := by
  refine returnsInHanded_of_change (C := Try.checked) own started (by kernel_rfl) Try.func3
    (ChangeSpec.witness6 (enc := enc) (C := Try.checked) false ⟨#[], #[.slice none 0 0], []⟩ 8 (by kernel_rfl) (by kernel_rfl) (by kernel_rfl) (by kernel_rfl)) ?_
  intro W base args ds gs before hval0 hW hcnd _
  have hval : ∀ (j : Nat) t v, Try.f3.params[j]? = some t → args[j]? = some v → Value.okWide Try.prog W .any base t v := hval0
  have hW' := hW
  obtain ⟨p, q, hA0, hV, rfl, hfz, hnd⟩ := hW
  have hA : DataW.TrodAll enc Try.prog W 0 (fun _ => true) true Try.f3.params.toList args.toList ds p := hA0
  rw [Try.params3] at hA hval
  obtain ⟨v0, vs0, d0, ds0, p0, q0, hargs, rfl, rfl, h0, r0⟩ := trodAll_cons hA
  obtain ⟨rfl, rfl, rfl⟩ := trodAll_nil r0
  obtain rfl : args = #[v0] := by cases args; simp_all
  obtain ⟨rfl, rfl⟩ := trodVars_none hV
  obtain ⟨a0, len0, cap0, rfl⟩ := okWide_slice Try.underlying22 (hval 0 22 v0 rfl rfl)
  have k0 := h0
  have lt0 : ∀ x ∈ p0, x.block < W.heap.size := by obtain ⟨m, hm⟩ := k0; exact DataW.trod_lt m _ _ _ hm
  obtain ⟨l0, w0⟩ : ∃ l, IsActs W a0 len0 cap0 l := by
    obtain ⟨fuel, hf⟩ := h0
    exact isActs_arg (by simp [Value.cells]) hf
  clear hA0 hval0
  refine (walk a0 len0 cap0 l0 W w0).mono fun e W' ⟨he, bel⟩ => ?_
  subst he
  exact ⟨_, rfl, _, _, _, [], _, [], hW', trodAll_mk1 (shut_bool Try.underlying4 _), (trodAll_cons_mk (Below.trod laidOut (by kernel_rfl) (of_decide_eq_true (by kernel_rfl)) k0 bel lt0) trodAll_mk0), rfl, bel.frame _, fun h => by cases h⟩

theorem over : Rows.flowTellsRow.holds Try.pinned (OpenSpec.ofChange Rows.flowTellsSpec) :=
  OpenClaim.holds_of_wide 3 Try.f3 rfl rfl rfl rfl rfl rfl rfl ⟨rfl, rfl, rfl, rfl, rfl⟩ rfl rfl rfl rfl rfl (by kernel_rfl) Try.func3 (by kernel_rfl)
    (of_decide_eq_true (by kernel_rfl)) (by unfold Func.isWrapper; first | (rw [if_pos (by decide +kernel)]; kernel_rfl) | (rw [if_neg (by decide +kernel)]; exact ⟨rfl, rfl⟩))
    (fun os started H enc _ => lifted os started H enc)

/-- the statement -/
theorem proved : Rows.FlowTellsSaid := over
end Go.Proofs.Ytddikahfenjnaaa.flowTells
