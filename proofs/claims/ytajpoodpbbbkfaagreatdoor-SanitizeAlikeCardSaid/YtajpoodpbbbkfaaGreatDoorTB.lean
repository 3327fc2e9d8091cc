/-
  Texts laid together: TkOne, TkTo, TkCode, TkArg, TkPut.
-/
import Derived.Test.YtajpoodpbbbkfaaGreatDoorQH
import Derived.Test.YtajpoodpbbbkfaaGreatDoorQE
import Derived.Test.YtajpoodpbbbkfaaGreatDoorQF
import Derived.Test.YtajpoodpbbbkfaaGreatDoorTxtCode
import Derived.Test.YtajpoodpbbbkfaaGreatDoorTA
import Derived.Test.YtajpoodpbbbkfaaGreatDoorQG
import Derived.Test.YtajpoodpbbbkfaaGreatDoorQI
import Derived.Test.YtajpoodpbbbkfaaGreatDoorQB
import Derived.Deep.SlicePairs
import Derived.ChangeArms
import Derived.ProofKit
import Derived.Laws.AppendOwnNone
set_option maxHeartbeats 16000000
set_option maxRecDepth 100000
namespace Go.Proofs.YtajpoodpbbbkfaaGreatDoor
open Go.RowKit Go.Lib
theorem pi (s:ByteArray) (a:Int) (w:World) (_hs:s.size≤1048576) (ha: -9223372036854775808≤a∧a≤9223372036854775807):Calls Tryz.prog 50 #[.string s,.int .i64 a] w fun e w'=>e= .returned (.int .i64 (jv s.data.toList a:Int))∧w'=w:=by
 obtain ⟨k,hk⟩:∃k,jv s.data.toList a=k:=⟨_,rfl⟩
 have hmx:max (0:Int) (min a (s.size:Int))=(k:Int):=by
  rw [←hk,Lib.size_eq];unfold jv;omega
 rw [hk];clear hk
 go_enter Tryz.func50,Tryz.ntmps50
 go_wp2
 go_ret
 exact ⟨az (by first|exact hmx|omega),rfl⟩
theorem bb {w w':World} {o:Obj} (h:Below (w.alloc o).heap.size (w.alloc o) w'):w'.heap[w.heap.size]? =some o∧Below w.heap.size w w'∧w.heap.size<w'.heap.size:=by
 have h1:=(h.block w.heap.size (by simp)).trans (heap_alloc_new w o)
 exact ⟨h1,((Below.refl _ w).alloc (Nat.le_refl _) _).trans (h.mono (by simp)),(Array.getElem?_eq_some_iff.1 h1).1⟩
theorem x8 (s:ByteArray) (a:Int) (w:World) (hs:s.size≤1048576) (ha: -9223372036854775808≤a∧a≤9223372036854775807) (h:bn w):Calls Tryz.prog 26 #[.string s,.int .i64 a] w (yN (BR s.data.toList a) w):=by
 have HW:=Lib.hid h
 have HA:=fun w=>Lib.hid (pi s a w hs ha)
 have hks:=gS s.data.toList a
 rw [vF]
 obtain ⟨k,hk⟩:∃k,jv s.data.toList a=k:=⟨_,rfl⟩
 rw [hk] at hks HA⊢
 have hw:=DW s.data.toList k hks
 rw [←Lib.size_eq] at hks
 have hkk:k≤1048576:=by omega
 have H9:=fun w h=>Lib.hid (wg s (k:Int) w hs (by omega) h)
 have H10:=fun w h=>Lib.hid (wh s (k:Int) w hs (by omega) h)
 have H11:=fun w h=>Lib.hid (wi s (k:Int) w hs (by omega) h)
 have HE:=fun w h=>Lib.hid (wj s (k:Int) w hs (by omega) h)
 have R9:=fun w h=>Lib.hid (AY s (k:Int) w hs (by omega) h)
 have R10:=fun w=>Lib.hid ((MR s (k:Int) w hs (by omega) trivial).mono fun _ _ h=>mV.plain h (vH _ _))
 have R11:=fun w=>Lib.hid ((MS s (k:Int) w hs (by omega) trivial).mono fun _ _ h=>mV.plain h (vI _ _))
 have RT:=fun w h=>Lib.hid (A5 s (k:Int) w hs (by omega) h)
 clear hk ha h
 rcases hw with ⟨h1,hv0⟩|⟨h1,h2,hv0⟩|⟨h1,h2,h3,hv0⟩|⟨h1,h2,h3,h4,hv0⟩|⟨h1,h2,h3,h4,hn,hv0⟩|⟨h1,h2,h3,h4,hn,hv0⟩
 focus
  rw [h1] at H9
  rw [hv0]
  clear h1 hv0 H10 H11 HE R10 R11 RT
  go_enter Tryz.func26,Tryz.ntmps26
  go_wp2_with (go_at_call 50;refine (HA _).out.mono ?_;rintro e w1 ⟨rfl,rfl⟩)
  have K0:=Lib.hid (Below.refl (w.alloc (.cells #[.int .i64 0,.string ⟨#[]⟩,.string ⟨#[]⟩,.slice none 0 0,.bool false] 33)).heap.size (w.alloc (.cells #[.int .i64 0,.string ⟨#[]⟩,.string ⟨#[]⟩,.slice none 0 0,.bool false] 33)))
  refine (H9 _ (HW.out.below (bb K0.out).2.1)).out.mono ?_
  rintro e v0 ⟨rfl,c⟩
  have K1:=Lib.hid (K0.out.trans (c.mono K0.out.size))
  clear c
  obtain ⟨hb1,c1,hlt⟩:=bb K1.out
  have HB1:=Lib.hid hb1
  have C1:=Lib.hid c1
  clear hb1 c1
  go_wp2_with (fail)
  refine (R9 _ (HW.out.below C1.out)).out.mono ?_
 rotate_left
 focus
  rw [h1] at H9
  rw [h2] at H10
  rw [hv0]
  clear h1 h2 hv0 H11 HE R9 R11 RT
  go_enter Tryz.func26,Tryz.ntmps26
  go_wp2_with (go_at_call 50;refine (HA _).out.mono ?_;rintro e w1 ⟨rfl,rfl⟩)
  have K0:=Lib.hid (Below.refl (w.alloc (.cells #[.int .i64 0,.string ⟨#[]⟩,.string ⟨#[]⟩,.slice none 0 0,.bool false] 33)).heap.size (w.alloc (.cells #[.int .i64 0,.string ⟨#[]⟩,.string ⟨#[]⟩,.slice none 0 0,.bool false] 33)))
  refine (H9 _ (HW.out.below (bb K0.out).2.1)).out.mono ?_
  rintro e v0 ⟨rfl,c⟩
  have K1:=Lib.hid (K0.out.trans (c.mono K0.out.size))
  clear c
  go_wp2_with (fail)
  refine (H10 _ (HW.out.below (bb K1.out).2.1)).out.mono ?_
  rintro e v1 ⟨rfl,c⟩
  have K2:=Lib.hid (K1.out.trans (c.mono K1.out.size))
  clear c
  obtain ⟨hb1,c1,hlt⟩:=bb K2.out
  have HB1:=Lib.hid hb1
  have C1:=Lib.hid c1
  clear hb1 c1
  go_wp2_with (fail)
  refine (R10 _).out.mono ?_
 rotate_left
 focus
  rw [h1] at H9
  rw [h2] at H10
  rw [h3] at H11
  rw [hv0]
  clear h1 h2 h3 hv0 HE R9 R10 RT
  go_enter Tryz.func26,Tryz.ntmps26
  go_wp2_with (go_at_call 50;refine (HA _).out.mono ?_;rintro e w1 ⟨rfl,rfl⟩)
  have K0:=Lib.hid (Below.refl (w.alloc (.cells #[.int .i64 0,.string ⟨#[]⟩,.string ⟨#[]⟩,.slice none 0 0,.bool false] 33)).heap.size (w.alloc (.cells #[.int .i64 0,.string ⟨#[]⟩,.string ⟨#[]⟩,.slice none 0 0,.bool false] 33)))
  refine (H9 _ (HW.out.below (bb K0.out).2.1)).out.mono ?_
  rintro e v0 ⟨rfl,c⟩
  have K1:=Lib.hid (K0.out.trans (c.mono K0.out.size))
  clear c
  go_wp2_with (fail)
  refine (H10 _ (HW.out.below (bb K1.out).2.1)).out.mono ?_
  rintro e v1 ⟨rfl,c⟩
  have K2:=Lib.hid (K1.out.trans (c.mono K1.out.size))
  clear c
  go_wp2_with (fail)
  refine (H11 _ (HW.out.below (bb K2.out).2.1)).out.mono ?_
  rintro e v2 ⟨rfl,c⟩
  have K3:=Lib.hid (K2.out.trans (c.mono K2.out.size))
  clear c
  obtain ⟨hb1,c1,hlt⟩:=bb K3.out
  have HB1:=Lib.hid hb1
  have C1:=Lib.hid c1
  clear hb1 c1
  go_wp2_with (fail)
  refine (R11 _).out.mono ?_
 rotate_left
 ·rw [h1] at H9
  rw [h2] at H10
  rw [h3] at H11
  rw [h4] at HE
  rw [hv0]
  clear h1 h2 h3 h4 hv0 R9 R10 R11 RT
  go_enter Tryz.func26,Tryz.ntmps26
  go_wp2_with (go_at_call 50;refine (HA _).out.mono ?_;rintro e w1 ⟨rfl,rfl⟩)
  have K0:=Lib.hid (Below.refl (w.alloc (.cells #[.int .i64 0,.string ⟨#[]⟩,.string ⟨#[]⟩,.slice none 0 0,.bool false] 33)).heap.size (w.alloc (.cells #[.int .i64 0,.string ⟨#[]⟩,.string ⟨#[]⟩,.slice none 0 0,.bool false] 33)))
  refine (H9 _ (HW.out.below (bb K0.out).2.1)).out.mono ?_
  rintro e v0 ⟨rfl,c⟩
  have K1:=Lib.hid (K0.out.trans (c.mono K0.out.size))
  clear c
  go_wp2_with (fail)
  refine (H10 _ (HW.out.below (bb K1.out).2.1)).out.mono ?_
  rintro e v1 ⟨rfl,c⟩
  have K2:=Lib.hid (K1.out.trans (c.mono K1.out.size))
  clear c
  go_wp2_with (fail)
  refine (H11 _ (HW.out.below (bb K2.out).2.1)).out.mono ?_
  rintro e v2 ⟨rfl,c⟩
  have K3:=Lib.hid (K2.out.trans (c.mono K2.out.size))
  clear c
  go_wp2_with (fail)
  refine (HE _ (HW.out.below (bb K3.out).2.1)).out.mono ?_
  rintro e v3 ⟨rfl,c⟩
  have K4:=Lib.hid (K3.out.trans (c.mono K3.out.size))
  clear c
  obtain ⟨hb1,c1,hlt⟩:=bb K4.out
  have HB1:=Lib.hid hb1
  have C1:=Lib.hid c1
  clear hb1 c1
  go_wp2_with (refine ak rfl _ _ rfl w.heap.size aJ none 0 0 rfl rfl _ HB1.out rfl ?_;intro w3 hb3 hg3)
  have B3:=C1.out.grown hg3 C1.out.size (fun j hj=>by cases hj;exact Nat.le_refl _)
  refine bodyPost_ret (aw rfl _ _ w.heap.size aJ none 0 0 rfl (aN hb3)) rfl ?_
  exact ⟨aJ,none,0,0,_,false,rfl,av _,rfl,B3,.inl rfl⟩
 ·rw [h1] at H9
  rw [h2] at H10
  rw [h3] at H11
  rw [h4] at HE
  rw [hn] at RT
  rw [hv0]
  clear h1 h2 h3 h4 hv0 R9 R10 R11 hn
  go_enter Tryz.func26,Tryz.ntmps26
  go_wp2_with (go_at_call 50;refine (HA _).out.mono ?_;rintro e w1 ⟨rfl,rfl⟩)
  have K0:=Lib.hid (Below.refl (w.alloc (.cells #[.int .i64 0,.string ⟨#[]⟩,.string ⟨#[]⟩,.slice none 0 0,.bool false] 33)).heap.size (w.alloc (.cells #[.int .i64 0,.string ⟨#[]⟩,.string ⟨#[]⟩,.slice none 0 0,.bool false] 33)))
  refine (H9 _ (HW.out.below (bb K0.out).2.1)).out.mono ?_
  rintro e v0 ⟨rfl,c⟩
  have K1:=Lib.hid (K0.out.trans (c.mono K0.out.size))
  clear c
  go_wp2_with (fail)
  refine (H10 _ (HW.out.below (bb K1.out).2.1)).out.mono ?_
  rintro e v1 ⟨rfl,c⟩
  have K2:=Lib.hid (K1.out.trans (c.mono K1.out.size))
  clear c
  go_wp2_with (fail)
  refine (H11 _ (HW.out.below (bb K2.out).2.1)).out.mono ?_
  rintro e v2 ⟨rfl,c⟩
  have K3:=Lib.hid (K2.out.trans (c.mono K2.out.size))
  clear c
  go_wp2_with (fail)
  refine (HE _ (HW.out.below (bb K3.out).2.1)).out.mono ?_
  rintro e v3 ⟨rfl,c⟩
  have K4:=Lib.hid (K3.out.trans (c.mono K3.out.size))
  clear c
  go_wp2_with (fail)
  refine (RT _ (HW.out.below (bb K4.out).2.1)).out.mono ?_
  rintro e v5 ⟨rfl,c⟩
  have K5:=Lib.hid (K4.out.trans (c.mono K4.out.size))
  clear c
  obtain ⟨hb1,c1,hlt⟩:=bb K5.out
  have HB1:=Lib.hid hb1
  have C1:=Lib.hid c1
  clear hb1 c1
  go_wp2_with (refine ak rfl _ _ rfl w.heap.size aJ none 0 0 rfl rfl _ HB1.out rfl ?_;intro w3 hb3 hg3)
  have B3:=C1.out.grown hg3 C1.out.size (fun j hj=>by cases hj;exact Nat.le_refl _)
  refine bodyPost_ret (aw rfl _ _ w.heap.size aJ none 0 0 rfl (aN hb3)) rfl ?_
  exact ⟨aJ,none,0,0,_,false,rfl,av _,rfl,B3,.inl rfl⟩
 ·rw [h1] at H9
  rw [h2] at H10
  rw [h3] at H11
  rw [h4] at HE
  obtain ⟨N,hN⟩:∃N,bz s.data.toList (k:Int)=N:=⟨_,rfl⟩
  have htop:=(oA s.data.toList (k:Int)).1
  rw [hN,←Lib.size_eq] at htop
  rw [hN] at hn hv0 RT
  obtain ⟨X,hX⟩:∃X,uj s.data.toList (k:Int)=X:=⟨_,rfl⟩
  rw [hX] at hv0 RT
  rw [hv0]
  have hne:((N:Int)==(k:Int))=false:=by rw [beq_eq_false_iff_ne];omega
  clear h1 h2 h3 h4 hv0 R9 R10 R11 hn hN hX
  go_enter Tryz.func26,Tryz.ntmps26
  go_wp2_with (go_at_call 50;refine (HA _).out.mono ?_;rintro e w1 ⟨rfl,rfl⟩)
  have K0:=Lib.hid (Below.refl (w.alloc (.cells #[.int .i64 0,.string ⟨#[]⟩,.string ⟨#[]⟩,.slice none 0 0,.bool false] 33)).heap.size (w.alloc (.cells #[.int .i64 0,.string ⟨#[]⟩,.string ⟨#[]⟩,.slice none 0 0,.bool false] 33)))
  refine (H9 _ (HW.out.below (bb K0.out).2.1)).out.mono ?_
  rintro e v0 ⟨rfl,c⟩
  have K1:=Lib.hid (K0.out.trans (c.mono K0.out.size))
  clear c
  go_wp2_with (fail)
  refine (H10 _ (HW.out.below (bb K1.out).2.1)).out.mono ?_
  rintro e v1 ⟨rfl,c⟩
  have K2:=Lib.hid (K1.out.trans (c.mono K1.out.size))
  clear c
  go_wp2_with (fail)
  refine (H11 _ (HW.out.below (bb K2.out).2.1)).out.mono ?_
  rintro e v2 ⟨rfl,c⟩
  have K3:=Lib.hid (K2.out.trans (c.mono K2.out.size))
  clear c
  go_wp2_with (fail)
  refine (HE _ (HW.out.below (bb K3.out).2.1)).out.mono ?_
  rintro e v3 ⟨rfl,c⟩
  have K4:=Lib.hid (K3.out.trans (c.mono K3.out.size))
  clear c
  go_wp2_with (fail)
  refine (RT _ (HW.out.below (bb K4.out).2.1)).out.mono ?_
  rintro e v5 ⟨rfl,c⟩
  have K5:=Lib.hid (K4.out.trans (c.mono K4.out.size))
  clear c
  obtain ⟨hb1,c1,hlt⟩:=bb K5.out
  have HB1:=Lib.hid hb1
  have C1:=Lib.hid c1
  clear hb1 c1
  go_wp2_with (refine ak rfl _ _ rfl w.heap.size ⟨0,[],X,[],false⟩ none 0 0 rfl rfl _ HB1.out rfl ?_;intro w3 hb3 hg3)
  have B3:=C1.out.grown hg3 C1.out.size (fun j hj=>by cases hj;exact Nat.le_refl _)
  refine bodyPost_ret (aw rfl _ _ w.heap.size ⟨0,[],X,[],false⟩ none 0 0 rfl (aN hb3)) rfl ?_
  exact ⟨⟨0,[],X,[],false⟩,none,0,0,_,true,rfl,av _,rfl,B3,.inl rfl⟩
 all_goals
  rintro e w2 ⟨t,ad,len,cap,n,ok,rfl,hr,hv,b2,hf⟩
  have HB:=Lib.hid ((b2.block _ hlt).trans HB1.out)
  have B2:=Lib.hid (C1.out.trans (b2.mono C1.out.size))
  have HF:=Lib.hid (kH (b:=w.heap.size) (g:=w.heap.size) hf C1.out.size hlt)
  have HR:=Lib.hid hr
  have HV:=Lib.hid hv
  clear b2 hf hr hv
  go_wp2_with (refine ak rfl _ _ rfl w.heap.size t ad len cap rfl rfl _ HB.out rfl ?_;intro w3 hb3 hg3)
  have B3:=B2.out.grown hg3 B2.out.size (fun j hj=>by cases hj;exact Nat.le_refl _)
  refine bodyPost_ret (aw rfl _ _ w.heap.size t ad len cap rfl (aN hb3)) rfl ?_
  exact ⟨t,ad,len,cap,n,ok,rfl,qK HR.out hg3 HF.out.2,HV.out,B3,HF.out.1⟩
end Go.Proofs.YtajpoodpbbbkfaaGreatDoor
namespace Go.Proofs.YtajpoodpbbbkfaaGreatDoor
open Go.RowKit Go.Lib
theorem Kv (st:Int) (nm s:ab) (k:Nat) (hk:k≤s.length) (hst:1≤st∧st≤4) (t:aq) (n:Int) (ok:Bool) (ht:pP s ((k+aG st nm (s.drop k):Nat):Int)=(t,n,ok)):(ge st nm s (k:Int)).1=aQ (fb st nm (s.drop k))++(if ok=true then [t] else [])∧((ge st nm s (k:Int)).2:Int)=n:=by
 obtain ⟨t1,t2,t3⟩:=pS st nm s k hk hst
 by_cases hlt:k+aG st nm (s.drop k)<s.length
 ·exact t3 hlt t n ok ht
 ·have he:k+aG st nm (s.drop k)=s.length:=by omega
  rw [(ow s _ (fun h=>by
   rw [show (((k+aG st nm (s.drop k):Nat):Int)).toNat=s.length by omega,List.drop_eq_nil_of_le (Nat.le_refl _)] at h
   exact h.2 rfl)).1] at ht
  simp only [Prod.mk.injEq] at ht
  obtain ⟨-,rfl,rfl⟩:=ht
  rw [t2 he]
  exact ⟨by simp,rfl⟩
theorem ya (s:ByteArray) (a st:Int) (nm:ByteArray) (w:World) (hs:s.size≤1048576) (hn:nm.size≤1048576) (ha: -9223372036854775808≤a∧a≤9223372036854775807) (h:bn w):Calls Tryz.prog 28 #[.string s,.int .i64 a,.int .i64 st,.string nm] w fun e w'=>∃v Q n,e= .returned (.tuple #[v,.int .i64 ((n:Nat):Int)])∧aH w' w.heap.size v Q∧(Q.map aY.t,n)=ge st nm.data.toList s.data.toList a∧Q.length≤2∧(∀q∈Q,jh w.heap.size q)∧Below w.heap.size w w':=by
 obtain ⟨i0,hi0,hz0,hz1,hz2⟩:=info_parts gL
 have HW:=Lib.hid h
 have HA:=fun w=>Lib.hid (pi s a w hs ha)
 have hks:=gS s.data.toList a
 rw [qG]
 obtain ⟨k,hk⟩:∃k,jv s.data.toList a=k:=⟨_,rfl⟩
 rw [hk] at hks HA⊢
 have hkk:k≤1048576:=by rw [←Lib.size_eq] at hks;omega
 by_cases hin:1≤st∧st≤4
 ·have t3:=Kv st nm.data.toList s.data.toList k hks hin
  have t1:=(pS st nm.data.toList s.data.toList k hks hin).1
  rw [←Lib.size_eq] at hks t1
  obtain ⟨R,hR⟩:∃R,ge st nm.data.toList s.data.toList (k:Int)=R:=⟨_,rfl⟩
  rw [hR] at t3⊢
  have hd:(s.data.toList.drop k).length=s.size-k:=by rw [List.length_drop,←Lib.size_eq]
  have hsays:fb st nm.data.toList (s.data.toList.drop k)=kF (decide (st=1)) (s.extract k (k+aG st nm.data.toList (s.data.toList.drop k))).data.toList:=by
   unfold fb;rw [Lib.extract_data,Nat.add_sub_cancel_left]
  have hE:aG st nm.data.toList (s.data.toList.drop k)=(if st=1∨st=2 then fs nm.data.toList (s.data.toList.drop k) else if st=3 then (dg 0 0 (s.data.toList.drop k)).1 else (s.data.toList.drop k).length):=rfl
  obtain ⟨D,hD⟩:∃D,aG st nm.data.toList (s.data.toList.drop k)=D:=⟨_,rfl⟩
  rw [hD] at t1 t3 hsays hE
  obtain ⟨E,hEE⟩:∃E,k+D=E:=⟨_,rfl⟩
  rw [hEE] at t1 t3 hsays
  have hkE:k≤E:=by omega
  have hEs:E≤1048576:=by omega
  obtain ⟨X,hX⟩:∃X,fb st nm.data.toList (s.data.toList.drop k)=X:=⟨_,rfl⟩
  rw [hX] at t3 hsays
  have T3:=Lib.hid t3
  have R9:=fun w h=>Lib.hid (AY s (E:Int) w hs (by omega) h)
  clear t3 hD hX hR hk h
  have HTX:=fun (r:Bool) w h=>Lib.hid (Ba (s.extract k E) r w (by rw [ByteArray.size_extract];omega) h)
  have hways:st=1∨st=2∨st=3∨st=4:=by omega
  rcases hways with rfl|rfl|rfl|rfl
  focus
   rw [if_pos (by decide)] at hE
   have HF:=fun w h=>Lib.hid (qQ s (k:Int) nm w hs hn (by omega) h)
   rw [fa _ _ _ (by rw [←Lib.size_eq];exact hks),←hE,hEE] at HF
   have HT1:=HTX true
   rw [show kF true (s.extract k E).data.toList=X from hsays.symm] at HT1
   clear HTX hsays hE hEE hd hin ha
   go_enter Tryz.func28,Tryz.ntmps28
   go_wp2_with (go_at_call 50;refine (HA _).out.mono ?_;rintro e w1 ⟨rfl,hw1⟩;obtain rfl:=hw1.symm)
   refine (HF _ HW.out).out.mono ?_
   rintro e w1 ⟨rfl,c1⟩
   have B1:=Lib.hid c1
   clear c1
   go_wp2_with (fail)
  rotate_left
  focus
   rw [if_pos (by decide)] at hE
   have HF:=fun w h=>Lib.hid (qQ s (k:Int) nm w hs hn (by omega) h)
   rw [fa _ _ _ (by rw [←Lib.size_eq];exact hks),←hE,hEE] at HF
   have HT1:=HTX false
   rw [show kF false (s.extract k E).data.toList=X from hsays.symm] at HT1
   clear HTX hsays hE hEE hd hin ha
   go_enter Tryz.func28,Tryz.ntmps28
   go_wp2_with (go_at_call 50;refine (HA _).out.mono ?_;rintro e w1 ⟨rfl,hw1⟩;obtain rfl:=hw1.symm)
   refine (HF _ HW.out).out.mono ?_
   rintro e w1 ⟨rfl,c1⟩
   have B1:=Lib.hid c1
   clear c1
   go_wp2_with (fail)
  rotate_left
  focus
   rw [if_neg (by decide),if_pos rfl] at hE
   have HF:=fun w=>Lib.hid (C5 s (k:Int) w hs (by omega))
   rw [DU _ _ (by rw [←Lib.size_eq];exact hks),←hE,hEE] at HF
   obtain ⟨Y,hY⟩:∃Y,(dg 0 0 (s.data.toList.drop k)).2=Y:=⟨_,rfl⟩
   simp only [hY] at HF
   clear hY
   have HT1:=HTX false
   rw [show kF false (s.extract k E).data.toList=X from hsays.symm] at HT1
   clear HTX hsays hE hEE hd hin ha
   go_enter Tryz.func28,Tryz.ntmps28
   go_wp2_with (go_at_call 50;refine (HA _).out.mono ?_;rintro e w1 ⟨rfl,hw1⟩;obtain rfl:=hw1.symm)
   refine (HF _).out.mono ?_
   rintro e w1 ⟨rfl,c1⟩
   have B1:=Lib.hid c1
   clear c1
   go_wp2_with (fail)
  rotate_left
  focus
   rw [if_neg (by decide),if_neg (by decide)] at hE
   obtain rfl:E=s.size:=by omega
   have HT1:=HTX false
   rw [show kF false (s.extract k s.size).data.toList=X from hsays.symm] at HT1
   clear HTX hsays hE hEE hd hin ha
   go_enter Tryz.func28,Tryz.ntmps28
   go_wp2_with (go_at_call 50;refine (HA _).out.mono ?_;rintro e w1 ⟨rfl,hw1⟩;obtain rfl:=hw1.symm)
   have B1:=Lib.hid (Below.refl w.heap.size w)
  rotate_left
  all_goals
   refine (HT1 _ (HW.out.below B1.out)).out.mono ?_
   rintro e w2 ⟨rfl,c2⟩
   have B2:=Lib.hid (B1.out.trans (c2.mono B1.out.size))
   clear c2
   by_cases hX0:X=[]
   ·obtain rfl:=hX0
    have HX0:=Lib.hid (rfl:([]:ab)=[])
    have HOC:=Lib.hid (bK w2 w.heap.size)
    have BC:=Lib.hid B2.out
    have hbs:=BC.out.size
    go_wp2_with (fail)
    refine (R9 _ (HW.out.below BC.out)).out.mono ?_
    rintro e w5 ⟨t,ad,len,cap,n,ok,rfl,hr,hv,b5,hf⟩
    obtain ⟨r1,r2⟩:=T3.out t n ok hv
    have HO5:=Lib.hid (HOC.out.below b5)
    have HA5:=Lib.hid (iA (q:=⟨t,ad,len,cap⟩) HOC.out hr hf)
    have HNA:=Lib.hid (show jh w.heap.size ⟨t,ad,len,cap⟩ from hf.elim .inl (fun h=> .inr fun k hk=>Nat.le_trans BC.out.size (h k hk)))
    have B5:=Lib.hid (BC.out.trans (b5.mono BC.out.size))
    have hbs5:=B5.out.size
    obtain ⟨R1,R2⟩:=R
    simp only at r1 r2
    subst r2
    have HR1:=Lib.hid r1
    clear hv b5 hr hf r1
    unfold eu
    cases ok
    ·go_wp2
     go_ret2
     exact ⟨.slice none 0 0,[],R2,rfl,HO5.out.alloc _,by rw [HR1.out];simp [aQ],by simp,(fun q h=>by cases h),B5.out.alloc hbs5 _⟩
    ·have HO6:=Lib.hid ((HO5.out.alloc (.cells #[.int .i64 t.kind,.string ⟨t.name.toArray⟩,.string ⟨t.text.toArray⟩,.slice ad len cap,.bool t.self] 33)).alloc (.cells #[.int .i64 t.kind,.string ⟨t.name.toArray⟩,.string ⟨t.text.toArray⟩,.slice ad len cap,.bool t.self] 33))
     go_wp2_with (at_builtin;refine wpList_append_own_at _ rfl _ _ 29 rfl w.heap.size 33 i0 _ 5 72 Tryz.underlying29 hi0 hz0 hz1 hz2 rfl (by decide) _ 0 (ag []) rfl (HO6.out).1 ⟨w5.heap.size+1,0,none⟩ 1 1 (ag [⟨t,ad,len,cap⟩]) rfl rfl ?c1 ?c2 ?c3 ?c4 ?c5 ?_)
     case c1=>first|exact bW _ ⟨t,ad,len,cap⟩ _ _ (by simp)|(intro j u hj;rw [bt] at hj;exact hj)
     case c2=>exact dl _
     case c3=>first|(simp [maxLen];done)|(simp [maxLen];omega)|omega
     case c4=>first|decide|omega
     case c5=>first|omega|(simp;omega)
     intro v6 w6 hown1 hgr1 _ hat1
     have HP:=Lib.hid (dc HO6.out (HA5.out.below (((Below.refl _ w5).alloc (Nat.le_refl _) _).alloc (by simp) _)) ((B5.out.alloc hbs5 _).alloc (by simp;omega) _) (Nat.le_refl _) hown1 hgr1 (by simpa using hat1))
     clear hown1 hgr1 hat1
     go_wp2
     go_ret2
     exact ⟨v6,[]++[⟨t,ad,len,cap⟩],R2,rfl,HP.out.1,by rw [HR1.out];simp [aQ],by simp,(fun q h=>by rw [List.mem_singleton.1 h];exact HNA.out),HP.out.2⟩
   ·have hne:=pW X hX0
    obtain ⟨hne1,hne2,hne3⟩:=hne
    have HX0:=Lib.hid hX0
    have HO0:=Lib.hid ((bK w2 w.heap.size).alloc (.cells #[.int .i64 0,.string ⟨#[]⟩,.string ⟨X.toArray⟩,.slice none 0 0,.bool false] 33))
    have hbs0:=B2.out.size
    go_wp2_with (at_builtin;refine wpList_append_own_at _ rfl _ _ 29 rfl w.heap.size 33 i0 _ 5 72 Tryz.underlying29 hi0 hz0 hz1 hz2 rfl (by decide) _ 0 (ag []) rfl (HO0.out).1 ⟨w2.heap.size,0,none⟩ 1 1 (ag [⟨⟨0,[],X,[],false⟩,none,0,0⟩]) rfl rfl ?c1 ?c2 ?c3 ?c4 ?c5 ?_)
    case c1=>first|exact bW _ ⟨⟨0,[],X,[],false⟩,none,0,0⟩ _ _ (by simp)|(intro j u hj;rw [bt] at hj;exact hj)
    case c2=>exact dl _
    case c3=>first|(simp [maxLen];done)|(simp [maxLen];omega)|omega
    case c4=>first|decide|omega
    case c5=>first|omega|(simp;omega)
    intro v3 w3 hown1 hgr1 _ hat1
    have HP3:=Lib.hid (dc (Q:=[]) HO0.out (nA _ _ X) (B2.out.alloc hbs0 _) (Nat.le_refl _) hown1 hgr1 (by simpa using hat1))
    have HOC:=Lib.hid (show aH w3 w.heap.size v3 [⟨⟨0,[],X,[],false⟩,none,0,0⟩] from HP3.out.1)
    have BC:=Lib.hid HP3.out.2
    have hbs:=BC.out.size
    clear hown1 hgr1 hat1 hne1 hne2 hne3 hX0 hbs0
    go_wp2_with (fail)
    refine (R9 _ (HW.out.below BC.out)).out.mono ?_
    rintro e w5 ⟨t,ad,len,cap,n,ok,rfl,hr,hv,b5,hf⟩
    obtain ⟨r1,r2⟩:=T3.out t n ok hv
    have HO5:=Lib.hid (HOC.out.below b5)
    have HA5:=Lib.hid (iA (q:=⟨t,ad,len,cap⟩) HOC.out hr hf)
    have HNA:=Lib.hid (show jh w.heap.size ⟨t,ad,len,cap⟩ from hf.elim .inl (fun h=> .inr fun k hk=>Nat.le_trans BC.out.size (h k hk)))
    have B5:=Lib.hid (BC.out.trans (b5.mono BC.out.size))
    have hbs5:=B5.out.size
    obtain ⟨R1,R2⟩:=R
    simp only at r1 r2
    subst r2
    have HR1:=Lib.hid r1
    clear hv b5 hr hf r1
    unfold eu
    cases ok
    ·go_wp2
     go_ret2
     exact ⟨v3,[⟨⟨0,[],X,[],false⟩,none,0,0⟩],R2,rfl,HO5.out.alloc _,by rw [HR1.out];simp [aQ,d9,HX0.out],by simp,(fun q h=>by rw [List.mem_singleton.1 h];exact .inl rfl),B5.out.alloc hbs5 _⟩
    ·have HO6:=Lib.hid ((HO5.out.alloc (.cells #[.int .i64 t.kind,.string ⟨t.name.toArray⟩,.string ⟨t.text.toArray⟩,.slice ad len cap,.bool t.self] 33)).alloc (.cells #[.int .i64 t.kind,.string ⟨t.name.toArray⟩,.string ⟨t.text.toArray⟩,.slice ad len cap,.bool t.self] 33))
     go_wp2_with (at_builtin;refine wpList_append_own_at _ rfl _ _ 29 rfl w.heap.size 33 i0 _ 5 72 Tryz.underlying29 hi0 hz0 hz1 hz2 rfl (by decide) _ 1 (ag [⟨⟨0,[],X,[],false⟩,none,0,0⟩]) rfl (HO6.out).1 ⟨w5.heap.size+1,0,none⟩ 1 1 (ag [⟨t,ad,len,cap⟩]) rfl rfl ?c1 ?c2 ?c3 ?c4 ?c5 ?_)
     case c1=>first|exact bW _ ⟨t,ad,len,cap⟩ _ _ (by simp)|(intro j u hj;rw [bt] at hj;exact hj)
     case c2=>exact dl _
     case c3=>first|(simp [maxLen];done)|(simp [maxLen];omega)|omega
     case c4=>first|decide|omega
     case c5=>first|omega|(simp;omega)
     intro v6 w6 hown1 hgr1 _ hat1
     have HP:=Lib.hid (dc HO6.out (HA5.out.below (((Below.refl _ w5).alloc (Nat.le_refl _) _).alloc (by simp) _)) ((B5.out.alloc hbs5 _).alloc (by simp;omega) _) (Nat.le_refl _) hown1 hgr1 (by simpa using hat1))
     clear hown1 hgr1 hat1
     go_wp2
     go_ret2
     exact ⟨v6,[⟨⟨0,[],X,[],false⟩,none,0,0⟩]++[⟨t,ad,len,cap⟩],R2,rfl,HP.out.1,by rw [HR1.out];simp [aQ,d9,HX0.out],by simp,(fun q h=>by rcases List.mem_append.1 h with h|h;(rw [List.mem_singleton.1 h];exact .inl rfl);(rw [List.mem_singleton.1 h];exact HNA.out)),HP.out.2⟩
 ·rw [vJ st _ _ k hks hin]
  have e1:(st==1)=false:=by rw [beq_eq_false_iff_ne];omega
  have e2:(st==2)=false:=by rw [beq_eq_false_iff_ne];omega
  have e3:(st==3)=false:=by rw [beq_eq_false_iff_ne];omega
  have e4:(st==4)=false:=by rw [beq_eq_false_iff_ne];omega
  clear hin hk hks ha h
  go_enter Tryz.func28,Tryz.ntmps28
  go_wp2_with (go_at_call 50;refine (HA _).out.mono ?_;rintro e w1 ⟨rfl,hw1⟩;obtain rfl:=hw1.symm)
  go_ret2
  exact ⟨.slice none 0 0,[],k,rfl,bK _ _,rfl,by simp,(fun q h=>by cases h),Below.refl _ _⟩
end Go.Proofs.YtajpoodpbbbkfaaGreatDoor
namespace Go.Proofs.YtajpoodpbbbkfaaGreatDoor
open Go.RowKit Go.Lib
theorem aH.toldN {w:World} {base:Nat} {v:Value} {Q:List aY} (h:aH w base v Q) (B:Nat) (hn:∀q∈Q,jh B q):∃a cap,v= .slice a Q.length cap∧cd w B a Q.length cap (Q.map aY.t):=by
 have hc:=fun g hg=>h.1.cells (g:=g) hg
 rcases h.1.2 with ⟨rfl,h0⟩|⟨g,cap,cur,rfl,hb,hg,hn',hm,hs,htake⟩
 ·refine ⟨none,0,by rw [h0],by simp,by omega,by simp [maxLen],fun i hi=>?_⟩
  rw [List.length_map] at hi;omega
 ·refine ⟨_,cap,rfl,by simp,hn',hm,fun i hi=>?_⟩
  have hi':i<Q.length:=by simpa using hi
  obtain ⟨e0,e1,e2,e3,e4⟩:=iz Q i hi'
  refine ⟨_,Q[i].ad,Q[i].len,Q[i].cap,rfl,⟨?_,?_,?_,?_,?_⟩,?_,?_⟩
  all_goals simp only [List.getElem_map]
  ·exact hc g rfl _ _ e0
  ·exact hc g rfl _ _ e1
  ·exact hc g rfl _ _ e2
  ·exact hc g rfl _ _ e3
  ·exact hc g rfl _ _ e4
  ·exact (h.2 Q[i] (List.getElem_mem hi')).1
  ·exact hn Q[i] (List.getElem_mem hi')
theorem gr.new {w:World} {a:Option Addr} {len cap:Nat} {L:List aq} (h:gr w a len cap L):cd w 0 a len cap L:=
 ⟨h.1,h.2.1,h.2.2.1,fun i hi=>by
  obtain ⟨x,ad,ln,cp,h1,h2,h3⟩:=h.2.2.2 i hi
  exact ⟨x,ad,ln,cp,h1,h2,h3,.inr fun k _=>Nat.zero_le k⟩⟩
theorem Bc (B:Nat) (a:Option Addr) (len cap:Nat) (L:List aq) (w:World) (hL:cd w B a len cap L) (hlen:len≤2097152) (htx:∀t∈L,t.text.length≤16777216) (hj:∀t∈L,jO t):Calls Tryz.prog 29 #[.slice a len cap] w fun e w'=>∃v Q,e= .returned v∧aH w' w.heap.size v Q∧Q.map aY.t=bX L∧(∀q∈Q,jh B q)∧Below w.heap.size w w':=by
 cases a with
 |some x=>exact zT B x len cap L w hL hlen htx hj
 |none=>
  have hnil:L=[]:=by
   cases L with
   |nil=>rfl
   |cons t L=>
    obtain ⟨x,_,_,_,h,_⟩:=hL.2.2.2 0 (Nat.succ_pos _)
    cases h
  subst hnil
  refine (xy len cap w).mono ?_
  rintro e w' ⟨rfl,rfl⟩
  exact ⟨_,[],rfl,bK _ _,rfl,(fun q h=>by cases h),Below.refl _ _⟩
end Go.Proofs.YtajpoodpbbbkfaaGreatDoor
namespace Go.Proofs.YtajpoodpbbbkfaaGreatDoor
open Go.ChangeShapes Go.WideShapes Go.ChangeAt Go.RowKit
end Go.Proofs.YtajpoodpbbbkfaaGreatDoor
namespace Go.Proofs.YtajpoodpbbbkfaaGreatDoor
open Go.RowKit Go.Lib
theorem iV {ops:Array Oper} {rest:List Oper} {o:Oper} {a:Act} {w:World} {P:Exit→Act→World→Prop} (hgd:o.guard=none) (s x:Operand) (ho:o.op= .call {callee:= .builtin .append,args:=#[s,x],argTypes:=#[29,29]}) (base base':Nat) (v v':Value) (Q R:List aY) (hs:a.eval s=v) (hx:a.eval x=v') (hQ:aH w base v Q) (hR:aH w base' v' R) (hA:∀q∈R,g8 w v q) (hlen:Q.length+R.length≤2097152) (hbase:base≤w.heap.size) (h:∀v1 w1,aH w1 base v1 (Q++R)→w.grownBy w1 v.ownBlock→wpList Tryz.prog ops P rest (a.put o.dst v1) w1):wpList Tryz.prog ops P (o::rest) a w:=by
 obtain ⟨i0,hi0,hz0,hz1,hz2⟩:=info_parts gL
 rcases hR.1.2 with ⟨rfl,h0⟩|⟨g,cap,cur,rfl,hb,hg,hn,hm,hsz,htake⟩
 ·have hR0:R=[]:=List.eq_nil_of_length_eq_zero h0
  subst hR0
  refine wpList_append_own_none hgd s x 29 ho base 33 i0 5 Tryz.underlying29 hi0 v Q.length (ag Q) hs hQ.1 hx ?_
  exact h v w (by rw [List.append_nil];exact hQ) (World.grownBy.refl w _)
 ·refine wpList_append_own_at (w:=w) hgd s x 29 ho base 33 i0 _ 5 72 Tryz.underlying29 hi0 hz0 hz1 hz2 rfl (by decide) v Q.length (ag Q) hs hQ.1 ⟨g,0,none⟩ R.length cap (ag R) hx (bR R) (hR.1.cells rfl) (mr R) (by unfold maxLen;omega) (by omega) hbase ?_
  intro v1 w1 hown hgr _ hat
  exact h v1 w1 (hQ.app hA hown hgr hat) hgr
end Go.Proofs.YtajpoodpbbbkfaaGreatDoor
