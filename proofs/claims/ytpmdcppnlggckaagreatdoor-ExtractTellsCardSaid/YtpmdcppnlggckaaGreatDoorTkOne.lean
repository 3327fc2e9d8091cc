/-
  What package tok's Next answers. (Written by wip/tools/gen_tkone.py.)
-/
import Derived.Test.YtpmdcppnlggckaaGreatDoorQH
import Derived.Test.YtpmdcppnlggckaaGreatDoorQE
import Derived.Test.YtpmdcppnlggckaaGreatDoorQF
import Derived.Test.YtpmdcppnlggckaaGreatDoorTxtCode
set_option maxHeartbeats 8000000
set_option maxRecDepth 100000
namespace Go.Proofs.YtpmdcppnlggckaaGreatDoor
open Go.RowKit Go.Lib
theorem ni (s:ByteArray) (a:Int) (w:World) (_hs:s.size≤1048576) (ha: -9223372036854775808≤a∧a≤9223372036854775807):Calls Tryz.prog 81 #[.string s,.int .i64 a] w fun e w'=>e= .returned (.int .i64 (ix s.data.toList a:Int))∧w'=w:=by
 obtain ⟨k,hk⟩:∃k,ix s.data.toList a=k:=⟨_,rfl⟩
 have hmx:max (0:Int) (min a (s.size:Int))=(k:Int):=by
  rw [←hk,Lib.size_eq];unfold ix;omega
 rw [hk];clear hk
 go_enter Tryz.func81,Tryz.ntmps81
 go_wp2
 go_ret
 exact ⟨av (by first|exact hmx|omega),rfl⟩
theorem aX {w w':World} {o:Obj} (h:Below (w.alloc o).heap.size (w.alloc o) w'):w'.heap[w.heap.size]? =some o∧Below w.heap.size w w'∧w.heap.size<w'.heap.size:=by
 have h1:=(h.block w.heap.size (by simp)).trans (heap_alloc_new w o)
 exact ⟨h1,((Below.refl _ w).alloc (Nat.le_refl _) _).trans (h.mono (by simp)),(Array.getElem?_eq_some_iff.1 h1).1⟩
theorem vd (s:ByteArray) (a:Int) (w:World) (hs:s.size≤1048576) (ha: -9223372036854775808≤a∧a≤9223372036854775807) (h:cc w):Calls Tryz.prog 50 #[.string s,.int .i64 a] w (wo (zr s.data.toList a) w):=by
 have HW:=Lib.hid h
 have HA:=fun w=>Lib.hid (ni s a w hs ha)
 have hks:=fX s.data.toList a
 rw [th]
 obtain ⟨k,hk⟩:∃k,ix s.data.toList a=k:=⟨_,rfl⟩
 rw [hk] at hks HA⊢
 have hw:=AU s.data.toList k hks
 rw [←Lib.size_eq] at hks
 have hkk:k≤1048576:=by omega
 have H9:=fun w h=>Lib.hid (tB s (k:Int) w hs (by omega) h)
 have H10:=fun w h=>Lib.hid (tC s (k:Int) w hs (by omega) h)
 have H11:=fun w h=>Lib.hid (tD s (k:Int) w hs (by omega) h)
 have HE:=fun w h=>Lib.hid (tF s (k:Int) w hs (by omega) h)
 have R9:=fun w h=>Lib.hid (yk s (k:Int) w hs (by omega) h)
 have R10:=fun w=>Lib.hid ((I4 s (k:Int) w hs (by omega) trivial).mono fun _ _ h=>lD.plain h (ti _ _))
 have R11:=fun w=>Lib.hid ((I5 s (k:Int) w hs (by omega) trivial).mono fun _ _ h=>lD.plain h (tj _ _))
 have RT:=fun w h=>Lib.hid (yq s (k:Int) w hs (by omega) h)
 clear hk ha h
 rcases hw with ⟨h1,hv0⟩|⟨h1,h2,hv0⟩|⟨h1,h2,h3,hv0⟩|⟨h1,h2,h3,h4,hv0⟩|⟨h1,h2,h3,h4,hn,hv0⟩|⟨h1,h2,h3,h4,hn,hv0⟩
 focus
  rw [h1] at H9
  rw [hv0]
  clear h1 hv0 H10 H11 HE R10 R11 RT
  go_enter Tryz.func50,Tryz.ntmps50
  go_wp2_with (go_at_call 81;refine (HA _).out.mono ?_;rintro e w1 ⟨rfl,rfl⟩)
  have K0:=Lib.hid (Below.refl (w.alloc (.cells #[.int .i64 0,.string ⟨#[]⟩,.string ⟨#[]⟩,.slice none 0 0,.bool false] 54)).heap.size (w.alloc (.cells #[.int .i64 0,.string ⟨#[]⟩,.string ⟨#[]⟩,.slice none 0 0,.bool false] 54)))
  refine (H9 _ (HW.out.below (aX K0.out).2.1)).out.mono ?_
  rintro e v0 ⟨rfl,c⟩
  have K1:=Lib.hid (K0.out.trans (c.mono K0.out.size))
  clear c
  obtain ⟨hb1,c1,hlt⟩:=aX K1.out
  have HB1:=Lib.hid hb1
  have C1:=Lib.hid c1
  clear hb1 c1
  go_wp2_with (fail)
  refine (R9 _ (HW.out.below C1.out)).out.mono ?_
 rotate_left
 focus
  rw [h1] at H9
  rw [h2] at H10
  rw [hv0]
  clear h1 h2 hv0 H11 HE R9 R11 RT
  go_enter Tryz.func50,Tryz.ntmps50
  go_wp2_with (go_at_call 81;refine (HA _).out.mono ?_;rintro e w1 ⟨rfl,rfl⟩)
  have K0:=Lib.hid (Below.refl (w.alloc (.cells #[.int .i64 0,.string ⟨#[]⟩,.string ⟨#[]⟩,.slice none 0 0,.bool false] 54)).heap.size (w.alloc (.cells #[.int .i64 0,.string ⟨#[]⟩,.string ⟨#[]⟩,.slice none 0 0,.bool false] 54)))
  refine (H9 _ (HW.out.below (aX K0.out).2.1)).out.mono ?_
  rintro e v0 ⟨rfl,c⟩
  have K1:=Lib.hid (K0.out.trans (c.mono K0.out.size))
  clear c
  go_wp2_with (fail)
  refine (H10 _ (HW.out.below (aX K1.out).2.1)).out.mono ?_
  rintro e v1 ⟨rfl,c⟩
  have K2:=Lib.hid (K1.out.trans (c.mono K1.out.size))
  clear c
  obtain ⟨hb1,c1,hlt⟩:=aX K2.out
  have HB1:=Lib.hid hb1
  have C1:=Lib.hid c1
  clear hb1 c1
  go_wp2_with (fail)
  refine (R10 _).out.mono ?_
 rotate_left
 focus
  rw [h1] at H9
  rw [h2] at H10
  rw [h3] at H11
  rw [hv0]
  clear h1 h2 h3 hv0 HE R9 R10 RT
  go_enter Tryz.func50,Tryz.ntmps50
  go_wp2_with (go_at_call 81;refine (HA _).out.mono ?_;rintro e w1 ⟨rfl,rfl⟩)
  have K0:=Lib.hid (Below.refl (w.alloc (.cells #[.int .i64 0,.string ⟨#[]⟩,.string ⟨#[]⟩,.slice none 0 0,.bool false] 54)).heap.size (w.alloc (.cells #[.int .i64 0,.string ⟨#[]⟩,.string ⟨#[]⟩,.slice none 0 0,.bool false] 54)))
  refine (H9 _ (HW.out.below (aX K0.out).2.1)).out.mono ?_
  rintro e v0 ⟨rfl,c⟩
  have K1:=Lib.hid (K0.out.trans (c.mono K0.out.size))
  clear c
  go_wp2_with (fail)
  refine (H10 _ (HW.out.below (aX K1.out).2.1)).out.mono ?_
  rintro e v1 ⟨rfl,c⟩
  have K2:=Lib.hid (K1.out.trans (c.mono K1.out.size))
  clear c
  go_wp2_with (fail)
  refine (H11 _ (HW.out.below (aX K2.out).2.1)).out.mono ?_
  rintro e v2 ⟨rfl,c⟩
  have K3:=Lib.hid (K2.out.trans (c.mono K2.out.size))
  clear c
  obtain ⟨hb1,c1,hlt⟩:=aX K3.out
  have HB1:=Lib.hid hb1
  have C1:=Lib.hid c1
  clear hb1 c1
  go_wp2_with (fail)
  refine (R11 _).out.mono ?_
 rotate_left
 ·rw [h1] at H9
  rw [h2] at H10
  rw [h3] at H11
  rw [h4] at HE
  rw [hv0]
  clear h1 h2 h3 h4 hv0 R9 R10 R11 RT
  go_enter Tryz.func50,Tryz.ntmps50
  go_wp2_with (go_at_call 81;refine (HA _).out.mono ?_;rintro e w1 ⟨rfl,rfl⟩)
  have K0:=Lib.hid (Below.refl (w.alloc (.cells #[.int .i64 0,.string ⟨#[]⟩,.string ⟨#[]⟩,.slice none 0 0,.bool false] 54)).heap.size (w.alloc (.cells #[.int .i64 0,.string ⟨#[]⟩,.string ⟨#[]⟩,.slice none 0 0,.bool false] 54)))
  refine (H9 _ (HW.out.below (aX K0.out).2.1)).out.mono ?_
  rintro e v0 ⟨rfl,c⟩
  have K1:=Lib.hid (K0.out.trans (c.mono K0.out.size))
  clear c
  go_wp2_with (fail)
  refine (H10 _ (HW.out.below (aX K1.out).2.1)).out.mono ?_
  rintro e v1 ⟨rfl,c⟩
  have K2:=Lib.hid (K1.out.trans (c.mono K1.out.size))
  clear c
  go_wp2_with (fail)
  refine (H11 _ (HW.out.below (aX K2.out).2.1)).out.mono ?_
  rintro e v2 ⟨rfl,c⟩
  have K3:=Lib.hid (K2.out.trans (c.mono K2.out.size))
  clear c
  go_wp2_with (fail)
  refine (HE _ (HW.out.below (aX K3.out).2.1)).out.mono ?_
  rintro e v3 ⟨rfl,c⟩
  have K4:=Lib.hid (K3.out.trans (c.mono K3.out.size))
  clear c
  obtain ⟨hb1,c1,hlt⟩:=aX K4.out
  have HB1:=Lib.hid hb1
  have C1:=Lib.hid c1
  clear hb1 c1
  go_wp2_with (refine ak rfl _ _ rfl w.heap.size aG none 0 0 rfl rfl _ HB1.out rfl ?_;intro w3 hb3 hg3)
  have B3:=C1.out.grown hg3 C1.out.size (fun j hj=>by cases hj;exact Nat.le_refl _)
  refine bodyPost_ret (ar rfl _ _ w.heap.size aG none 0 0 rfl (aJ hb3)) rfl ?_
  exact ⟨aG,none,0,0,_,false,rfl,aq _,rfl,B3,.inl rfl⟩
 ·rw [h1] at H9
  rw [h2] at H10
  rw [h3] at H11
  rw [h4] at HE
  rw [hn] at RT
  rw [hv0]
  clear h1 h2 h3 h4 hv0 R9 R10 R11 hn
  go_enter Tryz.func50,Tryz.ntmps50
  go_wp2_with (go_at_call 81;refine (HA _).out.mono ?_;rintro e w1 ⟨rfl,rfl⟩)
  have K0:=Lib.hid (Below.refl (w.alloc (.cells #[.int .i64 0,.string ⟨#[]⟩,.string ⟨#[]⟩,.slice none 0 0,.bool false] 54)).heap.size (w.alloc (.cells #[.int .i64 0,.string ⟨#[]⟩,.string ⟨#[]⟩,.slice none 0 0,.bool false] 54)))
  refine (H9 _ (HW.out.below (aX K0.out).2.1)).out.mono ?_
  rintro e v0 ⟨rfl,c⟩
  have K1:=Lib.hid (K0.out.trans (c.mono K0.out.size))
  clear c
  go_wp2_with (fail)
  refine (H10 _ (HW.out.below (aX K1.out).2.1)).out.mono ?_
  rintro e v1 ⟨rfl,c⟩
  have K2:=Lib.hid (K1.out.trans (c.mono K1.out.size))
  clear c
  go_wp2_with (fail)
  refine (H11 _ (HW.out.below (aX K2.out).2.1)).out.mono ?_
  rintro e v2 ⟨rfl,c⟩
  have K3:=Lib.hid (K2.out.trans (c.mono K2.out.size))
  clear c
  go_wp2_with (fail)
  refine (HE _ (HW.out.below (aX K3.out).2.1)).out.mono ?_
  rintro e v3 ⟨rfl,c⟩
  have K4:=Lib.hid (K3.out.trans (c.mono K3.out.size))
  clear c
  go_wp2_with (fail)
  refine (RT _ (HW.out.below (aX K4.out).2.1)).out.mono ?_
  rintro e v5 ⟨rfl,c⟩
  have K5:=Lib.hid (K4.out.trans (c.mono K4.out.size))
  clear c
  obtain ⟨hb1,c1,hlt⟩:=aX K5.out
  have HB1:=Lib.hid hb1
  have C1:=Lib.hid c1
  clear hb1 c1
  go_wp2_with (refine ak rfl _ _ rfl w.heap.size aG none 0 0 rfl rfl _ HB1.out rfl ?_;intro w3 hb3 hg3)
  have B3:=C1.out.grown hg3 C1.out.size (fun j hj=>by cases hj;exact Nat.le_refl _)
  refine bodyPost_ret (ar rfl _ _ w.heap.size aG none 0 0 rfl (aJ hb3)) rfl ?_
  exact ⟨aG,none,0,0,_,false,rfl,aq _,rfl,B3,.inl rfl⟩
 ·rw [h1] at H9
  rw [h2] at H10
  rw [h3] at H11
  rw [h4] at HE
  obtain ⟨N,hN⟩:∃N,bp s.data.toList (k:Int)=N:=⟨_,rfl⟩
  have htop:=(mN s.data.toList (k:Int)).1
  rw [hN,←Lib.size_eq] at htop
  rw [hN] at hn hv0 RT
  obtain ⟨X,hX⟩:∃X,rR s.data.toList (k:Int)=X:=⟨_,rfl⟩
  rw [hX] at hv0 RT
  rw [hv0]
  have hne:((N:Int)==(k:Int))=false:=by rw [beq_eq_false_iff_ne];omega
  clear h1 h2 h3 h4 hv0 R9 R10 R11 hn hN hX
  go_enter Tryz.func50,Tryz.ntmps50
  go_wp2_with (go_at_call 81;refine (HA _).out.mono ?_;rintro e w1 ⟨rfl,rfl⟩)
  have K0:=Lib.hid (Below.refl (w.alloc (.cells #[.int .i64 0,.string ⟨#[]⟩,.string ⟨#[]⟩,.slice none 0 0,.bool false] 54)).heap.size (w.alloc (.cells #[.int .i64 0,.string ⟨#[]⟩,.string ⟨#[]⟩,.slice none 0 0,.bool false] 54)))
  refine (H9 _ (HW.out.below (aX K0.out).2.1)).out.mono ?_
  rintro e v0 ⟨rfl,c⟩
  have K1:=Lib.hid (K0.out.trans (c.mono K0.out.size))
  clear c
  go_wp2_with (fail)
  refine (H10 _ (HW.out.below (aX K1.out).2.1)).out.mono ?_
  rintro e v1 ⟨rfl,c⟩
  have K2:=Lib.hid (K1.out.trans (c.mono K1.out.size))
  clear c
  go_wp2_with (fail)
  refine (H11 _ (HW.out.below (aX K2.out).2.1)).out.mono ?_
  rintro e v2 ⟨rfl,c⟩
  have K3:=Lib.hid (K2.out.trans (c.mono K2.out.size))
  clear c
  go_wp2_with (fail)
  refine (HE _ (HW.out.below (aX K3.out).2.1)).out.mono ?_
  rintro e v3 ⟨rfl,c⟩
  have K4:=Lib.hid (K3.out.trans (c.mono K3.out.size))
  clear c
  go_wp2_with (fail)
  refine (RT _ (HW.out.below (aX K4.out).2.1)).out.mono ?_
  rintro e v5 ⟨rfl,c⟩
  have K5:=Lib.hid (K4.out.trans (c.mono K4.out.size))
  clear c
  obtain ⟨hb1,c1,hlt⟩:=aX K5.out
  have HB1:=Lib.hid hb1
  have C1:=Lib.hid c1
  clear hb1 c1
  go_wp2_with (refine ak rfl _ _ rfl w.heap.size ⟨0,[],X,[],false⟩ none 0 0 rfl rfl _ HB1.out rfl ?_;intro w3 hb3 hg3)
  have B3:=C1.out.grown hg3 C1.out.size (fun j hj=>by cases hj;exact Nat.le_refl _)
  refine bodyPost_ret (ar rfl _ _ w.heap.size ⟨0,[],X,[],false⟩ none 0 0 rfl (aJ hb3)) rfl ?_
  exact ⟨⟨0,[],X,[],false⟩,none,0,0,_,true,rfl,aq _,rfl,B3,.inl rfl⟩
 all_goals
  rintro e w2 ⟨t,ad,len,cap,n,ok,rfl,hr,hv,b2,hf⟩
  have HB:=Lib.hid ((b2.block _ hlt).trans HB1.out)
  have B2:=Lib.hid (C1.out.trans (b2.mono C1.out.size))
  have HF:=Lib.hid (jG (b:=w.heap.size) (g:=w.heap.size) hf C1.out.size hlt)
  have HR:=Lib.hid hr
  have HV:=Lib.hid hv
  clear b2 hf hr hv
  go_wp2_with (refine ak rfl _ _ rfl w.heap.size t ad len cap rfl rfl _ HB.out rfl ?_;intro w3 hb3 hg3)
  have B3:=B2.out.grown hg3 B2.out.size (fun j hj=>by cases hj;exact Nat.le_refl _)
  refine bodyPost_ret (ar rfl _ _ w.heap.size t ad len cap rfl (aJ hb3)) rfl ?_
  exact ⟨t,ad,len,cap,n,ok,rfl,oS HR.out hg3 HF.out.2,HV.out,B3,HF.out.1⟩
end Go.Proofs.YtpmdcppnlggckaaGreatDoor
