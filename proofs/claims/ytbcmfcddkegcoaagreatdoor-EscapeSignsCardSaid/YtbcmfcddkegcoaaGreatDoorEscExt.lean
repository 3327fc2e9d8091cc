/-
  What is written, and read as bytes that are marked up: plain mathematics.
-/
import Derived.Test.YtbcmfcddkegcoaaGreatDoorSG
import Derived.Test.YtbcmfcddkegcoaaGreatDoorEscRef
import Derived.Test.YtbcmfcddkegcoaaGreatDoorEscSign
namespace Go.Proofs.YtbcmfcddkegcoaaGreatDoor
open Go.RowKit Go.Lib

/-- while nothing is told, what waits plays no part -/
theorem put_lost21 (keep : Bool) : ∀ (x : Txt) (e e' : Nat) (b b' : Txt), (putL keep ⟨[], e, b⟩ x).told = (putL keep ⟨[], e', b'⟩ x).told
  | [], _, _, _, _ => rfl
  | c :: x, e, e', b, b' => by
    have h : ∀ (e : Nat) (b : Txt), (∃ e2 b2, putB keep ⟨[], e, b⟩ c = ⟨[], e2, b2⟩) ∧ (c = 0 ∨ blkB c = true) ∨ (putB keep ⟨[], e, b⟩ c = ⟨[c], 0, []⟩ ∧ c ≠ 0 ∧ blkB c = false) := by
      intro e b
      unfold putB
      by_cases h0 : c = 0
      · rw [if_pos h0]; exact .inl ⟨⟨e, b, rfl⟩, .inl h0⟩
      · rw [if_neg h0]
        cases hb : blkB c
        · rw [if_neg Bool.false_ne_true]; exact .inr ⟨rfl, h0, rfl⟩
        · rw [if_pos rfl]
          refine .inl ⟨?_, .inr rfl⟩
          repeat' split
          all_goals exact ⟨_, _, rfl⟩
    rw [putL_cons, putL_cons]
    rcases h e b with ⟨⟨e2, b2, h1⟩, h3⟩ | ⟨h1, h3, h4⟩
    · rcases h e' b' with ⟨⟨e3, b3, h2⟩, -⟩ | ⟨-, h5, h6⟩
      · rw [h1, h2]; exact put_lost21 keep x _ _ _ _
      · rcases h3 with h3 | h3
        · exact absurd h3 h5
        · rw [h3] at h6; cases h6
    · rcases h e' b' with ⟨-, h5⟩ | ⟨h2, -, -⟩
      · rcases h5 with h5 | h5
        · exact absurd h5 h3
        · rw [h5] at h4; cases h4
      · rw [h1, h2]
/-- what is told of one text -/
theorem ren_one (x : Txt) : renL [txtT x] = (putL false flo0 x).told := by
  unfold renL
  rw [renR_cons, renR_nil, renT_text ren0 (txtT x) rfl, if_pos (show ren0.opn = [] from rfl)]; rfl
theorem enc_no (d : Int) (l : Txt) (c : UInt8) (h : badB c = true) : c ∉ encD d l := fun hm => by rw [encD_plain d l c hm] at h; cases h
set_option maxRecDepth 100000 in
theorem ext_signs (s : Txt) (hv : validD s = true) : extL ([60, 112, 62] ++ (encD 0 s ++ [60, 47, 112, 62])) = renL [txtT (cleanL s)] := by
  obtain ⟨b1, -, -, -⟩ := encD_bytes 0 (by decide) s hv
  have n60 := enc_no 0 s 60 (by decide)
  have n13 := enc_no 0 s 13 (by decide)
  have hdd : ddL false (encD 0 s) = cleanL s := by
    rw [dd_encD false 0 (by decide), if_neg (fun e => absurd e.1 (by decide))]; rfl
  obtain ⟨E, hE⟩ : ∃ E, encD 0 s = E := ⟨_, rfl⟩
  rw [hE] at b1 n60 n13 hdd ⊢
  have hp : drvN [112] = 0 := by decide +kernel
  have t1 : ∀ z : Txt, drvP ([60, 112, 62] ++ z) = (⟨1, [112], [], [], false⟩ : TokP) :: drvP z := fun z => tpl_step _ z _ ⟨by show (1 : Nat) ≠ 0; decide, rfl⟩ (fun e => e.2 hp)
  have t2 : drvP [60, 47, 112, 62] = [(⟨2, [112], [], [], false⟩ : TokP)] := tpl_step [60, 47, 112, 62] [] _ ⟨by show (2 : Nat) ≠ 0; decide, rfl⟩ (fun e => e.2 hp)
  have hd : dec ([60, 112, 62] ++ (E ++ [60, 47, 112, 62])) = [60, 112, 62] ++ (E ++ [60, 47, 112, 62]) := by
    rw [dec_plain _ (show hasPrefix ([60, 112, 62] ++ (E ++ [60, 47, 112, 62])) markL = false from low_head 60 _ (by decide)), dec0_same _ (sg_app _ _ (by decide) (sg_app _ _ b1 (by decide)))]
  have hn : normL ([60, 112, 62] ++ (E ++ [60, 47, 112, 62])) = [60, 112, 62] ++ (E ++ [60, 47, 112, 62]) := normL_same _ (by
    rw [List.mem_append, List.mem_append, not_or, not_or]
    exact ⟨by decide, n13, by decide⟩)
  have hk : renT ren0 ⟨1, [112], [], [], false⟩ = ⟨[], 0, brkF 2 flo0⟩ := plain_start ren0 ⟨rfl, rfl⟩ [112] [] false (by decide +kernel) (by decide +kernel) (by decide)
  rw [ext_eq, hd, hn, t1, drv_ahead E _ n60 (next_tag _ (by show (2 : Nat) ≠ 0; decide)), hdd, t2, renR_cons, hk, renR_app, ren_emit, renR_cons, renR_nil, plain_end _ (plain_text _ ⟨rfl, rfl⟩ _) [112] [] false (by decide +kernel)]
  show (linesF [112] _).told = _
  rw [lines_told, renT_text _ (txtT (cleanL s)) rfl, if_pos rfl, ren_one]
  exact put_lost21 false _ _ _ _ _
theorem ext_signs_ok (s : Txt) (hv : validD s = true) (hs : s.length ≤ 300) : ([60, 112, 62] ++ (encD 0 s ++ [60, 47, 112, 62])).length ≤ 100000 ∧ (drvL (normL (dec ([60, 112, 62] ++ (encD 0 s ++ [60, 47, 112, 62]))))).length ≤ 4096 ∧ ∀ t ∈ drvL (normL (dec ([60, 112, 62] ++ (encD 0 s ++ [60, 47, 112, 62])))), t.text.length ≤ 65536 := by
  obtain ⟨b1, -, -, -⟩ := encD_bytes 0 (by decide) s hv
  have n60 := enc_no 0 s 60 (by decide)
  have n13 := enc_no 0 s 13 (by decide)
  have hln := encD_len 0 s
  obtain ⟨E, hE⟩ : ∃ E, encD 0 s = E := ⟨_, rfl⟩
  rw [hE] at b1 n60 n13 hln ⊢
  have hp : drvN [112] = 0 := by decide +kernel
  have t1 : ∀ z : Txt, drvP ([60, 112, 62] ++ z) = (⟨1, [112], [], [], false⟩ : TokP) :: drvP z := fun z => tpl_step _ z _ ⟨by show (1 : Nat) ≠ 0; decide, rfl⟩ (fun e => e.2 hp)
  have t2 : drvP [60, 47, 112, 62] = [(⟨2, [112], [], [], false⟩ : TokP)] := tpl_step [60, 47, 112, 62] [] _ ⟨by show (2 : Nat) ≠ 0; decide, rfl⟩ (fun e => e.2 hp)
  have hd : dec ([60, 112, 62] ++ (E ++ [60, 47, 112, 62])) = [60, 112, 62] ++ (E ++ [60, 47, 112, 62]) := by
    rw [dec_plain _ (show hasPrefix ([60, 112, 62] ++ (E ++ [60, 47, 112, 62])) markL = false from low_head 60 _ (by decide)), dec0_same _ (sg_app _ _ (by decide) (sg_app _ _ b1 (by decide)))]
  have hn : normL ([60, 112, 62] ++ (E ++ [60, 47, 112, 62])) = [60, 112, 62] ++ (E ++ [60, 47, 112, 62]) := normL_same _ (by
    rw [List.mem_append, List.mem_append, not_or, not_or]
    exact ⟨by decide, n13, by decide⟩)
  have hlen : ([60, 112, 62] ++ (E ++ [60, 47, 112, 62])).length = E.length + 7 := by simp
  have hP : (drvP ([60, 112, 62] ++ (E ++ [60, 47, 112, 62]))).length ≤ 3 := by
    rw [t1, drv_ahead E _ n60 (next_tag _ (by show (2 : Nat) ≠ 0; decide)), t2]
    have := emit_len (ddL false E)
    simp; omega
  rw [hd, hn]
  refine ⟨by omega, ?_, fun t ht => ?_⟩
  · have := join_len (drvP ([60, 112, 62] ++ (E ++ [60, 47, 112, 62])))
    unfold drvL; omega
  · have := drv_text20 _ (E.length + 7) (by omega) t ht
    omega
end Go.Proofs.YtbcmfcddkegcoaaGreatDoor
