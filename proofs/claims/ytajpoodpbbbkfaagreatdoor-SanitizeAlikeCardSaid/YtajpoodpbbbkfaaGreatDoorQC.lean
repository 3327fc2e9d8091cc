/-
  Texts laid together: TagRef, TagRefB, ComRef, ComRefB.
-/
import Derived.Test.YtajpoodpbbbkfaaGreatDoorQA
import Derived.Test.YtajpoodpbbbkfaaGreatDoorP7
import Derived.Test.YtajpoodpbbbkfaaGreatDoorP1
import Derived.Test.YtajpoodpbbbkfaaGreatDoorP4
set_option maxHeartbeats 4000000
set_option maxRecDepth 100000
namespace Go.Proofs.YtajpoodpbbbkfaaGreatDoor
open Go.RowKit Go.Lib
def oK (s:ab) (a:Int):Int:=if gJ s a=true then a+(aV (s.drop a.toNat):Int) else-1
theorem xp (s:ab) (a:Int) (h:gJ s a=false):oK s a= -1:=by unfold oK;rw [h];rfl
theorem DX (s:ab) (k b:Nat) (h:aV (s.drop k)=b):oK s (k:Int)=if b=0 then-1 else ((k+b:Nat):Int):=by
 unfold oK
 rw [IB,show ((k:Nat):Int).toNat=k by omega,h]
 by_cases hb:b=0
 ·rw [if_pos hb,decide_eq_false (by simpa using hb)];rfl
 ·rw [if_neg hb,decide_eq_true hb,if_pos rfl,Int.natCast_add]
theorem Ns (t:ab) (h:t.head?≠some 60):aV t=0:=by unfold aV;rw [if_neg h]
theorem Nt (t:ab) (h:t.length=1):aV t=0:=by
 match t,h with
 |[c],_=>unfold aV;simp
theorem Pa (c d:UInt8) (t:ab) (h:c=60) (h1:d≠47):aV (c::d::t)=if fA d=true then 1 else 0:=by
 subst h;unfold aV;simp [h1]
theorem Pb (c d e:UInt8) (t:ab) (h:c=60) (h1:d=47):aV (c::d::e::t)=if fA e=true then 2 else 0:=by
 subst h;subst h1;unfold aV;simp
theorem Nu (c d:UInt8):aV [c,d]=if c=60∧d≠47∧fA d=true then 1 else 0:=by
 unfold aV
 by_cases h:c=60
 ·subst h
  by_cases h1:d=47
  ·subst h1;simp
  ·simp [h1]
 ·simp [h]
theorem qI (s:ByteArray) (a:Int) (w:World) (hs:s.size≤1048576) (ha: -9223372036854775808≤a∧a≤9223372036854775807):Calls Tryz.prog 163 #[.string s,.int .i64 a] w fun e w'=>e= .returned (.int .i64 (oK s.data.toList a))∧w'=w:=by
 by_cases h0:a<0
 ·have HV:=Lib.hid (xp s.data.toList a (by unfold gJ;exact decide_eq_false (fun h=>by omega)))
  rw [HV.out]
  go_enter Tryz.func163,Tryz.ntmps163
  go_wp2
  go_ret
  exact ⟨rfl,rfl⟩
 by_cases h1:(s.size:Int)≤a
 ·have HV:=Lib.hid (xp s.data.toList a (by
   unfold gJ
   refine decide_eq_false (fun h=>h.2 ?_)
   rw [List.drop_eq_nil_of_le (by rw [←Lib.size_eq];omega)];exact DM))
  rw [HV.out]
  go_enter Tryz.func163,Tryz.ntmps163
  go_wp2
  go_ret
  exact ⟨rfl,rfl⟩
 obtain ⟨k,rfl⟩:∃k:Nat,a=k:=⟨a.toNat,by omega⟩
 have hk:k<s.size:=by omega
 have HL:=fun (c:UInt8) w=>Lib.hid (pu (c.toNat:Int) w (by omega) (by have:=c.toNat_lt;omega))
 obtain ⟨V,hV⟩:∃V,oK s.data.toList (k:Int)=V:=⟨_,rfl⟩
 rw [hV]
 have HF:=fun b h=>Lib.hid (hV.symm.trans (DX s.data.toList k b h))
 clear hV h0 h1 ha
 have hd:=aj s k hk
 by_cases c60:s[k]=60
 ·have b60:(((s[k].toNat:Nat):Int) != 60)=false:=oj _ 60 (by decide) c60
  by_cases hk1:k+1<s.size
  ·have hd1:=aj s (k+1) hk1
   rw [hd1] at hd
   by_cases c47:s[k+1]=47
   ·have b47:(((s[k+1].toNat:Nat):Int)==47)=true:=by rw [c47];rfl
    by_cases hk2:k+2<s.size
    ·have hd2:=aj s (k+2) hk2
     have hb:=Pb s[k] s[k+1] s[k+2] (s.data.toList.drop (k+2+1)) c60 c47
     rw [show k+1+1=k+2 from rfl] at hd
     rw [hd2] at hd
     rw [←hd] at hb
     have HL:=fun w=>HL s[k+2] w
     cases hl:fA s[k+2]
     ·rw [hl] at hb
      have HV:=HF 0 hb
      rw [show bF ((s[k+2].toNat:Nat):Int)=false from hl] at HL
      rw [HV.out]
      clear HF HV hb hd hd1 hd2 c60 c47 hl
      go_enter Tryz.func163,Tryz.ntmps163
      go_wp2_with (go_at_call 167;refine (HL _).out.mono ?_;rintro e w' ⟨rfl,rfl⟩)
      go_ret
      exact ⟨rfl,rfl⟩
     ·rw [hl] at hb
      have HV:=HF 2 hb
      rw [show bF ((s[k+2].toNat:Nat):Int)=true from hl] at HL
      rw [HV.out]
      clear HF HV hb hd hd1 hd2 c60 c47 hl
      go_enter Tryz.func163,Tryz.ntmps163
      go_wp2_with (go_at_call 167;refine (HL _).out.mono ?_;rintro e w' ⟨rfl,rfl⟩)
      go_ret
      exact ⟨az (by first|rfl|omega|simp),rfl⟩
    ·rw [List.drop_eq_nil_of_le (i:=k+1+1) (by rw [←Lib.size_eq];omega)] at hd
     have hb:=Nu s[k] s[k+1]
     rw [←hd,if_neg (fun h=>h.2.1 c47)] at hb
     have HV:=HF 0 hb
     rw [HV.out]
     have hk3:s.size=k+2:=by omega
     have h3:(s.size:Int)=(k:Int)+2:=by omega
     clear HF HV hb hd hd1 c60 c47 HL
     go_enter Tryz.func163,Tryz.ntmps163
     go_wp2
     go_ret
     exact ⟨rfl,rfl⟩
   ·have b47:(((s[k+1].toNat:Nat):Int)==47)=false:=by
     rw [beq_eq_false_iff_ne];exact fun h=>c47 (aT _ 47 (by decide) h)
    have hb:=Pa s[k] s[k+1] (s.data.toList.drop (k+1+1)) c60 c47
    rw [←hd] at hb
    have HL:=fun w=>HL s[k+1] w
    cases hl:fA s[k+1]
    ·rw [hl] at hb
     have HV:=HF 0 hb
     rw [show bF ((s[k+1].toNat:Nat):Int)=false from hl] at HL
     rw [HV.out]
     clear HF HV hb hd hd1 c60 c47 hl
     go_enter Tryz.func163,Tryz.ntmps163
     go_wp2_with (go_at_call 167;refine (HL _).out.mono ?_;rintro e w' ⟨rfl,rfl⟩)
     go_ret
     exact ⟨rfl,rfl⟩
    ·rw [hl] at hb
     have HV:=HF 1 hb
     rw [show bF ((s[k+1].toNat:Nat):Int)=true from hl] at HL
     rw [HV.out]
     clear HF HV hb hd hd1 c60 c47 hl
     go_enter Tryz.func163,Tryz.ntmps163
     go_wp2_with (go_at_call 167;refine (HL _).out.mono ?_;rintro e w' ⟨rfl,rfl⟩)
     go_ret
     exact ⟨az (by first|rfl|omega|simp),rfl⟩
  ·have HV:=HF 0 (Nt _ (by rw [List.length_drop,←Lib.size_eq];omega))
   rw [HV.out]
   have h3:(s.size:Int)=(k:Int)+1:=by omega
   clear HF HV hd c60 HL
   go_enter Tryz.func163,Tryz.ntmps163
   go_wp2
   go_ret
   exact ⟨rfl,rfl⟩
 ·have b60:(((s[k].toNat:Nat):Int) != 60)=true:=by
   rw [bne_iff_ne];exact fun h=>c60 (aT _ 60 (by decide) h)
  have HV:=HF 0 (Ns _ (by rw [hd,List.head?_cons];exact fun e=>c60 (Option.some.inj e)))
  rw [HV.out]
  clear HF HV hd c60 HL
  go_enter Tryz.func163,Tryz.ntmps163
  go_wp2
  go_ret
  exact ⟨rfl,rfl⟩
theorem lA (s:ByteArray) (a:Int) (w:World) (hs:s.size≤1048576) (ha: -9223372036854775808≤a∧a≤9223372036854775807):Calls Tryz.prog 121 #[.string s,.int .i64 a] w fun e w'=>e= .returned (.bool (gJ s.data.toList a))∧w'=w:=by
 have HC:=fun w=>Lib.hid (qI s a w hs ha)
 have hv:gJ s.data.toList a=decide (0≤oK s.data.toList a):=by
  unfold oK
  cases h:gJ s.data.toList a
  ·rw [if_neg Bool.false_ne_true];rfl
  ·rw [if_pos rfl,eq_comm]
   have:=(of_decide_eq_true h).1
   exact decide_eq_true (by omega)
 have HV:=Lib.hid hv
 obtain ⟨V,hV⟩:∃V,oK s.data.toList a=V:=⟨_,rfl⟩
 rw [hV] at HC HV
 clear hv hV ha
 go_enter Tryz.func121,Tryz.ntmps121
 go_wp2_with (go_at_call 163;refine (HC _).out.mono ?_;rintro e w' ⟨rfl,rfl⟩)
 go_ret
 exact ⟨au HV.out.symm,rfl⟩
end Go.Proofs.YtajpoodpbbbkfaaGreatDoor
namespace Go.Proofs.YtajpoodpbbbkfaaGreatDoor
open Go.RowKit Go.Lib
theorem IS (s:ByteArray) (i:Nat) (h:i<s.size) (N:ByteArray) (nm:ab) (hp:dI s[i]=true) (hN:N.data.toList++(s.data.toList.drop i).takeWhile dI=nm):(N++s.extract i (i+1)).data.toList++(s.data.toList.drop (i+1)).takeWhile dI=nm:=by
 rw [aj s i h,ny hp] at hN
 rw [ByteArray.data_append,Array.toList_append,cr s i h,List.append_assoc];exact hN
theorem LP (s:ByteArray) (i:Nat) (h:i<s.size) (N:ByteArray) (nm:ab) (hp:dI s[i]=false) (hN:N.data.toList++(s.data.toList.drop i).takeWhile dI=nm):N.data.toList=nm:=by
 rw [aj s i h,qC hp,List.append_nil] at hN;exact hN
theorem IU (s:ByteArray) (N:ByteArray) (nm:ab) (hN:N.data.toList++(s.data.toList.drop s.size).takeWhile dI=nm):N.data.toList=nm:=by
 rw [List.drop_eq_nil_of_le (by rw [←Lib.size_eq];exact Nat.le_refl _),List.takeWhile_nil,List.append_nil] at hN;exact hN
theorem vK (s:ab) (k i:Nat) (hb:aV (s.drop k)≠0) (hi:i=k+aV (s.drop k)+(kD (s.drop k)).length) (hl:i≤s.length):(lz s (i:Int)=([],false,(s.length:Int),false)∧pP s (k:Int)=(aJ,(s.length:Int),false))∨∃(al:List Ln) (self:Bool) (m:Nat),lz s (i:Int)=(al,self,(m:Int),true)∧pP s (k:Int)=(xk (aV (s.drop k)) (kD (s.drop k)) al self,(m:Int),true):=by
 have hd:(s.drop k).drop (aV (s.drop k)+(kD (s.drop k)).length)=s.drop i:=by rw [List.drop_drop,hi,Nat.add_assoc]
 cases hr:eW (.s0 []) (s.drop i) with
 |none=>
  refine .inl ⟨nu s i hl (by unfold eT;rw [hr];rfl),sr s k hb ?_⟩
  unfold gR;rw [hd,hr];rfl
 |some r=>
  obtain ⟨al,self,m⟩:=r
  refine .inr ⟨al,self,m+i,?_,?_⟩
  ·exact nv s i hl al self (m+i) (by unfold eT;rw [hr];rfl)
  ·rw [ss s k hb (xk (aV (s.drop k)) (kD (s.drop k)) al self) (aV (s.drop k)+(kD (s.drop k)).length+m) (by unfold gR;rw [hd,hr];rfl)]
   rw [show k+(aV (s.drop k)+(kD (s.drop k)).length+m)=m+i by omega]
theorem mv (w:World) (g:Nat) (c0 c1 c2 c3 c4:Value) (T:TypeId) (hg:w.heap[g]? =some (.cells #[c0,c1,c2,c3,c4] T (0,0))) (t:aq) (a:Option Addr) (len cap:Nat):fF (((((w.setCell ⟨g,0,none⟩ (.int .i64 t.kind)).setCell ⟨g,1,none⟩ (.string ⟨t.name.toArray⟩)).setCell ⟨g,2,none⟩ (.string ⟨t.text.toArray⟩)).setCell ⟨g,3,none⟩ (.slice a len cap)).setCell ⟨g,4,none⟩ (.bool t.self)) g t a len cap:=by
 have h0:=Go.heap_setCell_same w g 0 _ T (.int .i64 t.kind) hg
 have h1:=Go.heap_setCell_same _ g 1 _ T (.string ⟨t.name.toArray⟩) h0
 have h2:=Go.heap_setCell_same _ g 2 _ T (.string ⟨t.text.toArray⟩) h1
 have h3:=Go.heap_setCell_same _ g 3 _ T (.slice a len cap) h2
 have h4:=Go.heap_setCell_same _ g 4 _ T (.bool t.self) h3
 refine ⟨?_,?_,?_,?_,?_⟩<;>(rw [cell_of_row _ _ _ _ _ _ h4];rfl)
theorem fj {w:World} {ad:Option Addr} {len cap:Nat} {l:List Ln} (h:cf w ad len cap l) (g j:Nat) (hne:∀k,(Value.slice ad len cap).ownBlock=some k→k≠g) (v:Value):cf (w.setCell ⟨g,j,none⟩ v) ad len cap l:=by
 refine ⟨h.1,h.2.1,h.2.2.1,fun i hi=>?_⟩
 obtain ⟨x,rfl,h1,h2⟩:=h.2.2.2 i hi
 have hx:x.block≠g:=hne x.block rfl
 have hc:∀n,(w.setCell ⟨g,j,none⟩ v).cell? (x.add n)=w.cell? (x.add n):=fun n=>
  World.cell?_of_block (Below.heap_setCell w ⟨g,j,none⟩ v _ (by rw [show (x.add n).block=x.block by unfold Addr.add;split<;>rfl];exact hx))
 exact ⟨x,rfl,by rw [hc];exact h1,by rw [hc];exact h2⟩
theorem qJ {w:World} {ad:Option Addr} {len cap:Nat} {l:List Ln} (h:cf w ad len cap l) (g:Nat) (hne:∀k,(Value.slice ad len cap).ownBlock=some k→k≠g) (v0 v1 v2 v3 v4:Value):cf (((((w.setCell ⟨g,0,none⟩ v0).setCell ⟨g,1,none⟩ v1).setCell ⟨g,2,none⟩ v2).setCell ⟨g,3,none⟩ v3).setCell ⟨g,4,none⟩ v4) ad len cap l:=
 fj (fj (fj (fj (fj h g 0 hne v0) g 1 hne v1) g 2 hne v2) g 3 hne v3) g 4 hne v4
theorem iB {B:Nat} {w w':World} (h:Below B w w') (g:Nat) (hg:B≤g) (v0 v1 v2 v3 v4:Value):Below B w (((((w'.setCell ⟨g,0,none⟩ v0).setCell ⟨g,1,none⟩ v1).setCell ⟨g,2,none⟩ v2).setCell ⟨g,3,none⟩ v3).setCell ⟨g,4,none⟩ v4):=
 ((((h.setCell (p:=⟨g,0,none⟩) hg v0).setCell (p:=⟨g,1,none⟩) hg v1).setCell (p:=⟨g,2,none⟩) hg v2).setCell (p:=⟨g,3,none⟩) hg v3).setCell (p:=⟨g,4,none⟩) hg v4
theorem m0 (s:ByteArray) (a:Int) (w:World) (hs:s.size≤1048576) (ha: -9223372036854775808≤a∧a≤9223372036854775807):Calls Tryz.prog 122 #[.string s,.int .i64 a] w (yN (pP s.data.toList a) w):=by
 have HC:=fun w=>Lib.hid (qI s a w hs ha)
 by_cases hb:0≤a∧aV (s.data.toList.drop a.toNat)≠0
 ·obtain ⟨k,rfl⟩:∃k:Nat,a=k:=⟨a.toNat,by omega⟩
  obtain ⟨-,hb⟩:=hb
  rw [show ((k:Nat):Int).toNat=k by omega] at hb
  rw [DX s.data.toList k _ rfl,if_neg hb] at HC
  have hlen:=BH _ hb
  rw [List.length_drop,←Lib.size_eq] at hlen
  have h12:aV (s.data.toList.drop k)=1∨aV (s.data.toList.drop k)=2:=by
   obtain ⟨c,t,-,⟨-,h,-⟩|⟨-,h⟩⟩:=mj _ hb
   ·exact .inl h
   ·exact .inr h
  have hnm:(s.data.toList.drop (k+aV (s.data.toList.drop k))).takeWhile dI=kD (s.data.toList.drop k):=by unfold kD;rw [List.drop_drop]
  have HRest:=fun i h1 h2=>Lib.hid (vK s.data.toList k i hb h1 h2)
  rw [←Lib.size_eq] at HRest
  obtain ⟨b,hbb⟩:∃b,aV (s.data.toList.drop k)=b:=⟨_,rfl⟩
  obtain ⟨nm,hnn⟩:∃nm,kD (s.data.toList.drop k)=nm:=⟨_,rfl⟩
  rw [hbb] at HC hlen h12 hnm HRest
  rw [hnn] at hlen hnm HRest
  have HNM:=Lib.hid hnm
  have HSp:=fun c w=>Lib.hid (nT ((c:UInt8).toNat:Int) w)
  have HA:=fun i w h=>Lib.hid (sq s ((i:Nat):Int) w hs h)
  clear hbb hnn hnm hb
  obtain ⟨K,hK⟩:∃K,k+b=K:=⟨_,rfl⟩
  rw [hK] at HNM
  rw [show ((k+b:Nat):Int)=(K:Int) by omega] at HC
  have hlen2:K+nm.length≤s.size:=by omega
  go_enter Tryz.func122,Tryz.ntmps122
  go_wp2_with (go_at_call 163;refine (HC _).out.mono ?_;rintro e w' ⟨rfl,rfl⟩)
  go_loopw [8,9] (fun v8 v9 wr=>∃(i d:Nat) (N:ByteArray),v8= .string N∧v9= .int .i64 (i:Int)∧wr=(w.alloc (.cells #[.int .i64 0,.string ⟨#[]⟩,.string ⟨#[]⟩,.slice none 0 0,.bool false] 33)).drewN d∧Hid (i=K+N.size)∧i≤s.size∧N.size≤i∧K≤i∧Hid (N.data.toList++(s.data.toList.drop i).takeWhile dI=nm)) (fun _ v _=>s.size-(ae v).toNat)
  case atStart=>exact ⟨K,0,⟨#[]⟩,rfl,rfl,rfl,Lib.hid rfl,by omega,Nat.zero_le _,Nat.le_refl _,HNM⟩
  case round=>
   obtain ⟨i,d,N,rfl,rfl,rfl,HI,hle,hNi,hKi,HN⟩:=hrel
   by_cases hlt:i<s.size
   ·have HS:=fun w=>HSp s[i] w
    have hb1:=s[i].toNat_lt
    cases hp:dI s[i]
    ·have HNE:=Lib.hid (LP s i hlt N nm hp HN.out)
     have hpp:cv s[i]=true∨cv s[i]=false∧s[i]=47∨cv s[i]=false∧s[i]≠47∧s[i]=62:=by
      unfold dI at hp
      simp only [Bool.not_eq_false',Bool.or_eq_true,beq_iff_eq] at hp
      by_cases h1:cv s[i]=true
      ·exact .inl h1
      ·have h1:cv s[i]=false:=by simpa using h1
       by_cases h2:s[i]=47
       ·exact .inr (.inl ⟨h1,h2⟩)
       ·refine .inr (.inr ⟨h1,h2,?_⟩)
        rcases hp with (h|h)|h
        ·rw [h1] at h;cases h
        ·exact (h2 h).elim
        ·exact h
     have hbr:cG ((s[i].toNat:Nat):Int)=true∨cG ((s[i].toNat:Nat):Int)=false∧(((s[i].toNat:Nat):Int)==47)=true∨cG ((s[i].toNat:Nat):Int)=false∧(((s[i].toNat:Nat):Int)==47)=false∧(((s[i].toNat:Nat):Int)==62)=true:=by
      rcases hpp with h|⟨h,h2⟩|⟨h,h2,h3⟩
      ·exact .inl h
      ·exact .inr (.inl ⟨h,by rw [h2];rfl⟩)
      ·exact .inr (.inr ⟨h,by rw [beq_eq_false_iff_ne];exact fun e=>h2 (aT _ 47 (by decide) e),by rw [h3];rfl⟩)
     clear hpp hp
     rcases hbr with c1|⟨c1,c2⟩|⟨c1,c2,c3⟩
     all_goals
      rw [c1] at HS
      go_wp2_with (go_at_call 164;refine (HS _).out.mono ?_;rintro e w' ⟨rfl,rfl⟩)
      have hNs:N.size=nm.length:=by rw [Lib.size_eq,HNE.out]
      have HN3:=Lib.hid (show (⟨(ap (aF N.data.toList)).toArray⟩:ByteArray)=⟨(aP nm).toArray⟩ by rw [HNE.out];rfl)
      have HL:=fun w=>Lib.hid (nU N w (by omega))
      have HCl:=fun w=>Lib.hid (bc (qV N) w (by rw [jw];omega))
      rw [fo,HN3.out] at HCl
      have HRR:=HRest i (by rw [HI.out,hNs];omega) hle
      obtain ⟨W0,hW0⟩:∃W0,(w.alloc (.cells #[.int .i64 0,.string ⟨#[]⟩,.string ⟨#[]⟩,.slice none 0 0,.bool false] 33)).drewN d=W0:=⟨_,rfl⟩
      have hblk:W0.heap[w.heap.size]? =some (.cells #[.int .i64 0,.string ⟨#[]⟩,.string ⟨#[]⟩,.slice none 0 0,.bool false] 33 (0,0)):=by rw [←hW0];exact heap_alloc_new w _
      have hB0:Below w.heap.size w W0:=by rw [←hW0];exact ((Below.refl _ w).alloc (Nat.le_refl _) _).trans (ai _ _ _)
      have hlt0:w.heap.size<W0.heap.size:=(Array.getElem?_eq_some_iff.1 hblk).1
      rw [hW0]
      refine (HA i _ (by omega)).out.mono ?_
      rintro e w3 ⟨ad,len,cap,l,self,n,ok,rfl,hr,hv,b3,hfr⟩
      have HFW:Hid (∀k,(Value.slice ad len cap).ownBlock=some k→w.heap.size≤k):=Lib.hid (fun k hk=>by have:=hfr k hk;omega)
      have HFR:Hid (∀k,(Value.slice ad len cap).ownBlock=some k→k≠w.heap.size):=Lib.hid (fun k hk=>by have:=hfr k hk;omega)
      clear hfr
      have B3:=Lib.hid (hB0.trans (b3.mono hB0.size))
      have hblk3:=(b3.block _ hlt0).trans hblk
      have HK1:=Lib.hid hK
      have hkK:k≤1048576:=by omega
      clear hW0 HNE hNs hlen hlen2 hblk hlt0 b3 hB0 hK hKi hNi HN3
      rcases HRR.out with ⟨h1,h2⟩|⟨al,self',m,h1,h2⟩
      ·rw [h1] at hv
       simp only [Prod.mk.injEq] at hv
       obtain ⟨rfl,rfl,rfl,rfl⟩:=hv
       have HV:=Lib.hid h2
       have HBK:=Lib.hid hblk3
       have c0:w3.cell? ⟨w.heap.size,0,none⟩=some (.int .i64 0):=by rw [cell_of_row _ _ _ _ _ _ hblk3];rfl
       have c1:w3.cell? ⟨w.heap.size,1,none⟩=some (.string ⟨#[]⟩):=by rw [cell_of_row _ _ _ _ _ _ hblk3];rfl
       have c2:w3.cell? ⟨w.heap.size,2,none⟩=some (.string ⟨#[]⟩):=by rw [cell_of_row _ _ _ _ _ _ hblk3];rfl
       have c3:w3.cell? ⟨w.heap.size,3,none⟩=some (.slice none 0 0):=by rw [cell_of_row _ _ _ _ _ _ hblk3];rfl
       have c4:w3.cell? ⟨w.heap.size,4,none⟩=some (.bool false):=by rw [cell_of_row _ _ _ _ _ _ hblk3];rfl
       have f0:w3.frozen? ⟨w.heap.size,0,none⟩=false:=frozen_of_row _ _ _ _ _ hblk3
       have f1:w3.frozen? ⟨w.heap.size,1,none⟩=false:=frozen_of_row _ _ _ _ _ hblk3
       have f2:w3.frozen? ⟨w.heap.size,2,none⟩=false:=frozen_of_row _ _ _ _ _ hblk3
       have f3:w3.frozen? ⟨w.heap.size,3,none⟩=false:=frozen_of_row _ _ _ _ _ hblk3
       have f4:w3.frozen? ⟨w.heap.size,4,none⟩=false:=frozen_of_row _ _ _ _ _ hblk3
       clear h1 h2 hblk3
       have hTk:fF (((((w3.setCell ⟨w.heap.size,0,none⟩ (.int .i64 0)).setCell ⟨w.heap.size,1,none⟩ (.string ⟨#[]⟩)).setCell ⟨w.heap.size,2,none⟩ (.string ⟨#[]⟩)).setCell ⟨w.heap.size,3,none⟩ (.slice none 0 0)).setCell ⟨w.heap.size,4,none⟩ (.bool false)) w.heap.size aJ none 0 0:=mv w3 w.heap.size _ _ _ _ _ _ HBK.out aJ none 0 0
       have hBw:=iB B3.out w.heap.size (Nat.le_refl _) (.int .i64 0) (.string ⟨#[]⟩) (.string ⟨#[]⟩) (.slice none 0 0) (.bool false)
       obtain ⟨W,hW⟩:∃W,(((((w3.setCell ⟨w.heap.size,0,none⟩ (.int .i64 0)).setCell ⟨w.heap.size,1,none⟩ (.string ⟨#[]⟩)).setCell ⟨w.heap.size,2,none⟩ (.string ⟨#[]⟩)).setCell ⟨w.heap.size,3,none⟩ (.slice none 0 0)).setCell ⟨w.heap.size,4,none⟩ (.bool false))=W:=⟨_,rfl⟩
       rw [hW] at hTk hBw
       have HTk:=Lib.hid hTk
       have HBw:=Lib.hid hBw
       have HWw:=Lib.hid hW
       clear hTk hBw hW
       go_wp2
       rw [HWw.out]
       refine bodyPost_ret (aw rfl _ _ w.heap.size aJ none 0 0 rfl HTk.out) rfl ?_
       exact ⟨aJ,none,0,0,_,false,rfl,av _,HV.out,HBw.out,.inr fun k hk=>by cases hk⟩
      ·rw [h1] at hv
       simp only [Prod.mk.injEq] at hv
       obtain ⟨rfl,rfl,rfl,rfl⟩:=hv
       have HV:=Lib.hid h2
       have K3:=Lib.hid hr
       have HBK:=Lib.hid hblk3
       clear h1 h2 hblk3 hr
       have hnot:decide (K<0)=false:=decide_eq_false (by omega)
       go_wp2_with (fail)
       refine (HL _).out.mono ?_
       rintro e w4 ⟨rfl,b4⟩
       go_wp2_with (fail)
       refine (HCl _).out.mono ?_
       rintro e w5 ⟨rfl,b5⟩
       have D5:=Lib.hid (b4.trans (b5.mono b4.size))
       have hblk5:=(D5.out.block _ (Array.getElem?_eq_some_iff.1 HBK.out).1).trans HBK.out
       have HBK5:=Lib.hid hblk5
       have K5:=Lib.hid (K3.out.below D5.out (Nat.le_refl _))
       have B5:=Lib.hid (B3.out.trans (D5.out.mono B3.out.size))
       have c0:w5.cell? ⟨w.heap.size,0,none⟩=some (.int .i64 0):=by rw [cell_of_row _ _ _ _ _ _ hblk5];rfl
       have c1:w5.cell? ⟨w.heap.size,1,none⟩=some (.string ⟨#[]⟩):=by rw [cell_of_row _ _ _ _ _ _ hblk5];rfl
       have c2:w5.cell? ⟨w.heap.size,2,none⟩=some (.string ⟨#[]⟩):=by rw [cell_of_row _ _ _ _ _ _ hblk5];rfl
       have c3:w5.cell? ⟨w.heap.size,3,none⟩=some (.slice none 0 0):=by rw [cell_of_row _ _ _ _ _ _ hblk5];rfl
       have c4:w5.cell? ⟨w.heap.size,4,none⟩=some (.bool false):=by rw [cell_of_row _ _ _ _ _ _ hblk5];rfl
       have f0:w5.frozen? ⟨w.heap.size,0,none⟩=false:=frozen_of_row _ _ _ _ _ hblk5
       have f1:w5.frozen? ⟨w.heap.size,1,none⟩=false:=frozen_of_row _ _ _ _ _ hblk5
       have f2:w5.frozen? ⟨w.heap.size,2,none⟩=false:=frozen_of_row _ _ _ _ _ hblk5
       have f3:w5.frozen? ⟨w.heap.size,3,none⟩=false:=frozen_of_row _ _ _ _ _ hblk5
       have f4:w5.frozen? ⟨w.heap.size,4,none⟩=false:=frozen_of_row _ _ _ _ _ hblk5
       have hrl:=K5.out
       clear hblk5 b4 b5 hrl
       rcases h12 with rfl|rfl
       ·have hKk:((K:Int)==(k:Int)+2)=false:=by rw [beq_eq_false_iff_ne];have:=HK1.out;omega
        have hTk:fF (((((w5.setCell ⟨w.heap.size,0,none⟩ (.int .i64 1)).setCell ⟨w.heap.size,1,none⟩ (.string ⟨(aP nm).toArray⟩)).setCell ⟨w.heap.size,2,none⟩ (.string ⟨#[]⟩)).setCell ⟨w.heap.size,3,none⟩ (.slice ad len cap)).setCell ⟨w.heap.size,4,none⟩ (.bool self')) w.heap.size ⟨1,aP nm,[],al,self'⟩ ad len cap:=mv w5 w.heap.size _ _ _ _ _ _ HBK5.out ⟨1,aP nm,[],al,self'⟩ ad len cap
        have hBw:=iB B5.out w.heap.size (Nat.le_refl _) (.int .i64 1) (.string ⟨(aP nm).toArray⟩) (.string ⟨#[]⟩) (.slice ad len cap) (.bool self')
        have hRw:=qJ K5.out w.heap.size HFR.out (.int .i64 1) (.string ⟨(aP nm).toArray⟩) (.string ⟨#[]⟩) (.slice ad len cap) (.bool self')
        obtain ⟨W,hW⟩:∃W,(((((w5.setCell ⟨w.heap.size,0,none⟩ (.int .i64 1)).setCell ⟨w.heap.size,1,none⟩ (.string ⟨(aP nm).toArray⟩)).setCell ⟨w.heap.size,2,none⟩ (.string ⟨#[]⟩)).setCell ⟨w.heap.size,3,none⟩ (.slice ad len cap)).setCell ⟨w.heap.size,4,none⟩ (.bool self'))=W:=⟨_,rfl⟩
        rw [hW] at hTk hBw hRw
        have HTk:=Lib.hid hTk
        have HBw:=Lib.hid hBw
        have HRw:=Lib.hid hRw
        have HWw:=Lib.hid hW
        clear hTk hBw hW hRw
        go_wp2
        rw [HWw.out]
        refine bodyPost_ret (aw rfl _ _ w.heap.size ⟨1,aP nm,[],al,self'⟩ ad len cap rfl HTk.out) rfl ?_
        exact ⟨⟨1,aP nm,[],al,self'⟩,ad,len,cap,_,true,rfl,HRw.out,HV.out,HBw.out,.inr HFW.out⟩
       ·have hKk:((K:Int)==(k:Int)+2)=true:=by rw [beq_iff_eq];have:=HK1.out;omega
        have hTk:fF (((((w5.setCell ⟨w.heap.size,0,none⟩ (.int .i64 2)).setCell ⟨w.heap.size,1,none⟩ (.string ⟨(aP nm).toArray⟩)).setCell ⟨w.heap.size,2,none⟩ (.string ⟨#[]⟩)).setCell ⟨w.heap.size,3,none⟩ (.slice none 0 0)).setCell ⟨w.heap.size,4,none⟩ (.bool false)) w.heap.size ⟨2,aP nm,[],[],false⟩ none 0 0:=mv w5 w.heap.size _ _ _ _ _ _ HBK5.out ⟨2,aP nm,[],[],false⟩ none 0 0
        have hBw:=iB B5.out w.heap.size (Nat.le_refl _) (.int .i64 2) (.string ⟨(aP nm).toArray⟩) (.string ⟨#[]⟩) (.slice none 0 0) (.bool false)
        obtain ⟨W,hW⟩:∃W,(((((w5.setCell ⟨w.heap.size,0,none⟩ (.int .i64 2)).setCell ⟨w.heap.size,1,none⟩ (.string ⟨(aP nm).toArray⟩)).setCell ⟨w.heap.size,2,none⟩ (.string ⟨#[]⟩)).setCell ⟨w.heap.size,3,none⟩ (.slice none 0 0)).setCell ⟨w.heap.size,4,none⟩ (.bool false))=W:=⟨_,rfl⟩
        rw [hW] at hTk hBw
        have HTk:=Lib.hid hTk
        have HBw:=Lib.hid hBw
        have HWw:=Lib.hid hW
        clear hTk hBw hW
        go_wp2
        rw [HWw.out]
        refine bodyPost_ret (aw rfl _ _ w.heap.size ⟨2,aP nm,[],[],false⟩ none 0 0 rfl HTk.out) rfl ?_
        exact ⟨⟨2,aP nm,[],[],false⟩,none,0,0,_,true,rfl,av _,HV.out,HBw.out,.inr fun k hk=>by cases hk⟩
    ·have hpp:cv s[i]=false∧s[i]≠47∧s[i]≠62:=by
      unfold dI at hp
      simp only [Bool.not_eq_true',Bool.or_eq_false_iff,beq_eq_false_iff_ne] at hp
      exact ⟨hp.1.1,hp.1.2,hp.2⟩
     have b47:(((s[i].toNat:Nat):Int)==47)=false:=by
      rw [beq_eq_false_iff_ne];exact fun h=>hpp.2.1 (aT _ 47 (by decide) h)
     have b62:(((s[i].toNat:Nat):Int)==62)=false:=by
      rw [beq_eq_false_iff_ne];exact fun h=>hpp.2.2 (aT _ 62 (by decide) h)
     rw [show cG ((s[i].toNat:Nat):Int)=false from hpp.1] at HS
     have HN2:=Lib.hid (IS s i hlt N nm hp HN.out)
     have hz:(N++s.extract i (i+1)).size=N.size+1:=by rw [ByteArray.size_append,ByteArray.size_extract];omega
     have HZ:=Lib.hid hz
     have g1:¬9223372036854775807<N.size+(s.extract i (i+1)).size:=by rw [ByteArray.size_extract];omega
     clear hpp hp hz
     go_wp2_with (go_at_call 164;refine (HS _).out.mono ?_;rintro e w' ⟨rfl,rfl⟩)
     go_roundw
     case rel=>exact ⟨i+1,_,_,rfl,by go_num,rfl,Lib.hid (by rw [HZ.out,HI.out];omega),by omega,by rw [HZ.out];omega,by omega,HN2⟩
     case measure=>simp [ae];omega
   ·obtain rfl:i=s.size:=by omega
    have HNE:=Lib.hid (IU s N nm HN.out)
    go_wp2_with (fail)
    have hNs:N.size=nm.length:=by rw [Lib.size_eq,HNE.out]
    have HN3:=Lib.hid (show (⟨(ap (aF N.data.toList)).toArray⟩:ByteArray)=⟨(aP nm).toArray⟩ by rw [HNE.out];rfl)
    have HL:=fun w=>Lib.hid (nU N w (by omega))
    have HCl:=fun w=>Lib.hid (bc (qV N) w (by rw [jw];omega))
    rw [fo,HN3.out] at HCl
    have HRR:=HRest s.size (by rw [HI.out,hNs];omega) (Nat.le_refl _)
    obtain ⟨W0,hW0⟩:∃W0,(w.alloc (.cells #[.int .i64 0,.string ⟨#[]⟩,.string ⟨#[]⟩,.slice none 0 0,.bool false] 33)).drewN d=W0:=⟨_,rfl⟩
    have hblk:W0.heap[w.heap.size]? =some (.cells #[.int .i64 0,.string ⟨#[]⟩,.string ⟨#[]⟩,.slice none 0 0,.bool false] 33 (0,0)):=by rw [←hW0];exact heap_alloc_new w _
    have hB0:Below w.heap.size w W0:=by rw [←hW0];exact ((Below.refl _ w).alloc (Nat.le_refl _) _).trans (ai _ _ _)
    have hlt0:w.heap.size<W0.heap.size:=(Array.getElem?_eq_some_iff.1 hblk).1
    rw [hW0]
    refine (HA s.size _ (by omega)).out.mono ?_
    rintro e w3 ⟨ad,len,cap,l,self,n,ok,rfl,hr,hv,b3,hfr⟩
    have HFW:Hid (∀k,(Value.slice ad len cap).ownBlock=some k→w.heap.size≤k):=Lib.hid (fun k hk=>by have:=hfr k hk;omega)
    have HFR:Hid (∀k,(Value.slice ad len cap).ownBlock=some k→k≠w.heap.size):=Lib.hid (fun k hk=>by have:=hfr k hk;omega)
    clear hfr
    have B3:=Lib.hid (hB0.trans (b3.mono hB0.size))
    have hblk3:=(b3.block _ hlt0).trans hblk
    have HK1:=Lib.hid hK
    have hkK:k≤1048576:=by omega
    clear hW0 HNE hNs hlen hlen2 hblk hlt0 b3 hB0 hK hKi hNi HN3
    rcases HRR.out with ⟨h1,h2⟩|⟨al,self',m,h1,h2⟩
    ·rw [h1] at hv
     simp only [Prod.mk.injEq] at hv
     obtain ⟨rfl,rfl,rfl,rfl⟩:=hv
     have HV:=Lib.hid h2
     have HBK:=Lib.hid hblk3
     have c0:w3.cell? ⟨w.heap.size,0,none⟩=some (.int .i64 0):=by rw [cell_of_row _ _ _ _ _ _ hblk3];rfl
     have c1:w3.cell? ⟨w.heap.size,1,none⟩=some (.string ⟨#[]⟩):=by rw [cell_of_row _ _ _ _ _ _ hblk3];rfl
     have c2:w3.cell? ⟨w.heap.size,2,none⟩=some (.string ⟨#[]⟩):=by rw [cell_of_row _ _ _ _ _ _ hblk3];rfl
     have c3:w3.cell? ⟨w.heap.size,3,none⟩=some (.slice none 0 0):=by rw [cell_of_row _ _ _ _ _ _ hblk3];rfl
     have c4:w3.cell? ⟨w.heap.size,4,none⟩=some (.bool false):=by rw [cell_of_row _ _ _ _ _ _ hblk3];rfl
     have f0:w3.frozen? ⟨w.heap.size,0,none⟩=false:=frozen_of_row _ _ _ _ _ hblk3
     have f1:w3.frozen? ⟨w.heap.size,1,none⟩=false:=frozen_of_row _ _ _ _ _ hblk3
     have f2:w3.frozen? ⟨w.heap.size,2,none⟩=false:=frozen_of_row _ _ _ _ _ hblk3
     have f3:w3.frozen? ⟨w.heap.size,3,none⟩=false:=frozen_of_row _ _ _ _ _ hblk3
     have f4:w3.frozen? ⟨w.heap.size,4,none⟩=false:=frozen_of_row _ _ _ _ _ hblk3
     clear h1 h2 hblk3
     have hTk:fF (((((w3.setCell ⟨w.heap.size,0,none⟩ (.int .i64 0)).setCell ⟨w.heap.size,1,none⟩ (.string ⟨#[]⟩)).setCell ⟨w.heap.size,2,none⟩ (.string ⟨#[]⟩)).setCell ⟨w.heap.size,3,none⟩ (.slice none 0 0)).setCell ⟨w.heap.size,4,none⟩ (.bool false)) w.heap.size aJ none 0 0:=mv w3 w.heap.size _ _ _ _ _ _ HBK.out aJ none 0 0
     have hBw:=iB B3.out w.heap.size (Nat.le_refl _) (.int .i64 0) (.string ⟨#[]⟩) (.string ⟨#[]⟩) (.slice none 0 0) (.bool false)
     obtain ⟨W,hW⟩:∃W,(((((w3.setCell ⟨w.heap.size,0,none⟩ (.int .i64 0)).setCell ⟨w.heap.size,1,none⟩ (.string ⟨#[]⟩)).setCell ⟨w.heap.size,2,none⟩ (.string ⟨#[]⟩)).setCell ⟨w.heap.size,3,none⟩ (.slice none 0 0)).setCell ⟨w.heap.size,4,none⟩ (.bool false))=W:=⟨_,rfl⟩
     rw [hW] at hTk hBw
     have HTk:=Lib.hid hTk
     have HBw:=Lib.hid hBw
     have HWw:=Lib.hid hW
     clear hTk hBw hW
     go_wp2
     rw [HWw.out]
     refine bodyPost_ret (aw rfl _ _ w.heap.size aJ none 0 0 rfl HTk.out) rfl ?_
     exact ⟨aJ,none,0,0,_,false,rfl,av _,HV.out,HBw.out,.inr fun k hk=>by cases hk⟩
    ·rw [h1] at hv
     simp only [Prod.mk.injEq] at hv
     obtain ⟨rfl,rfl,rfl,rfl⟩:=hv
     have HV:=Lib.hid h2
     have K3:=Lib.hid hr
     have HBK:=Lib.hid hblk3
     clear h1 h2 hblk3 hr
     have hnot:decide (K<0)=false:=decide_eq_false (by omega)
     go_wp2_with (fail)
     refine (HL _).out.mono ?_
     rintro e w4 ⟨rfl,b4⟩
     go_wp2_with (fail)
     refine (HCl _).out.mono ?_
     rintro e w5 ⟨rfl,b5⟩
     have D5:=Lib.hid (b4.trans (b5.mono b4.size))
     have hblk5:=(D5.out.block _ (Array.getElem?_eq_some_iff.1 HBK.out).1).trans HBK.out
     have HBK5:=Lib.hid hblk5
     have K5:=Lib.hid (K3.out.below D5.out (Nat.le_refl _))
     have B5:=Lib.hid (B3.out.trans (D5.out.mono B3.out.size))
     have c0:w5.cell? ⟨w.heap.size,0,none⟩=some (.int .i64 0):=by rw [cell_of_row _ _ _ _ _ _ hblk5];rfl
     have c1:w5.cell? ⟨w.heap.size,1,none⟩=some (.string ⟨#[]⟩):=by rw [cell_of_row _ _ _ _ _ _ hblk5];rfl
     have c2:w5.cell? ⟨w.heap.size,2,none⟩=some (.string ⟨#[]⟩):=by rw [cell_of_row _ _ _ _ _ _ hblk5];rfl
     have c3:w5.cell? ⟨w.heap.size,3,none⟩=some (.slice none 0 0):=by rw [cell_of_row _ _ _ _ _ _ hblk5];rfl
     have c4:w5.cell? ⟨w.heap.size,4,none⟩=some (.bool false):=by rw [cell_of_row _ _ _ _ _ _ hblk5];rfl
     have f0:w5.frozen? ⟨w.heap.size,0,none⟩=false:=frozen_of_row _ _ _ _ _ hblk5
     have f1:w5.frozen? ⟨w.heap.size,1,none⟩=false:=frozen_of_row _ _ _ _ _ hblk5
     have f2:w5.frozen? ⟨w.heap.size,2,none⟩=false:=frozen_of_row _ _ _ _ _ hblk5
     have f3:w5.frozen? ⟨w.heap.size,3,none⟩=false:=frozen_of_row _ _ _ _ _ hblk5
     have f4:w5.frozen? ⟨w.heap.size,4,none⟩=false:=frozen_of_row _ _ _ _ _ hblk5
     have hrl:=K5.out
     clear hblk5 b4 b5 hrl
     rcases h12 with rfl|rfl
     ·have hKk:((K:Int)==(k:Int)+2)=false:=by rw [beq_eq_false_iff_ne];have:=HK1.out;omega
      have hTk:fF (((((w5.setCell ⟨w.heap.size,0,none⟩ (.int .i64 1)).setCell ⟨w.heap.size,1,none⟩ (.string ⟨(aP nm).toArray⟩)).setCell ⟨w.heap.size,2,none⟩ (.string ⟨#[]⟩)).setCell ⟨w.heap.size,3,none⟩ (.slice ad len cap)).setCell ⟨w.heap.size,4,none⟩ (.bool self')) w.heap.size ⟨1,aP nm,[],al,self'⟩ ad len cap:=mv w5 w.heap.size _ _ _ _ _ _ HBK5.out ⟨1,aP nm,[],al,self'⟩ ad len cap
      have hBw:=iB B5.out w.heap.size (Nat.le_refl _) (.int .i64 1) (.string ⟨(aP nm).toArray⟩) (.string ⟨#[]⟩) (.slice ad len cap) (.bool self')
      have hRw:=qJ K5.out w.heap.size HFR.out (.int .i64 1) (.string ⟨(aP nm).toArray⟩) (.string ⟨#[]⟩) (.slice ad len cap) (.bool self')
      obtain ⟨W,hW⟩:∃W,(((((w5.setCell ⟨w.heap.size,0,none⟩ (.int .i64 1)).setCell ⟨w.heap.size,1,none⟩ (.string ⟨(aP nm).toArray⟩)).setCell ⟨w.heap.size,2,none⟩ (.string ⟨#[]⟩)).setCell ⟨w.heap.size,3,none⟩ (.slice ad len cap)).setCell ⟨w.heap.size,4,none⟩ (.bool self'))=W:=⟨_,rfl⟩
      rw [hW] at hTk hBw hRw
      have HTk:=Lib.hid hTk
      have HBw:=Lib.hid hBw
      have HRw:=Lib.hid hRw
      have HWw:=Lib.hid hW
      clear hTk hBw hW hRw
      go_wp2
      rw [HWw.out]
      refine bodyPost_ret (aw rfl _ _ w.heap.size ⟨1,aP nm,[],al,self'⟩ ad len cap rfl HTk.out) rfl ?_
      exact ⟨⟨1,aP nm,[],al,self'⟩,ad,len,cap,_,true,rfl,HRw.out,HV.out,HBw.out,.inr HFW.out⟩
     ·have hKk:((K:Int)==(k:Int)+2)=true:=by rw [beq_iff_eq];have:=HK1.out;omega
      have hTk:fF (((((w5.setCell ⟨w.heap.size,0,none⟩ (.int .i64 2)).setCell ⟨w.heap.size,1,none⟩ (.string ⟨(aP nm).toArray⟩)).setCell ⟨w.heap.size,2,none⟩ (.string ⟨#[]⟩)).setCell ⟨w.heap.size,3,none⟩ (.slice none 0 0)).setCell ⟨w.heap.size,4,none⟩ (.bool false)) w.heap.size ⟨2,aP nm,[],[],false⟩ none 0 0:=mv w5 w.heap.size _ _ _ _ _ _ HBK5.out ⟨2,aP nm,[],[],false⟩ none 0 0
      have hBw:=iB B5.out w.heap.size (Nat.le_refl _) (.int .i64 2) (.string ⟨(aP nm).toArray⟩) (.string ⟨#[]⟩) (.slice none 0 0) (.bool false)
      obtain ⟨W,hW⟩:∃W,(((((w5.setCell ⟨w.heap.size,0,none⟩ (.int .i64 2)).setCell ⟨w.heap.size,1,none⟩ (.string ⟨(aP nm).toArray⟩)).setCell ⟨w.heap.size,2,none⟩ (.string ⟨#[]⟩)).setCell ⟨w.heap.size,3,none⟩ (.slice none 0 0)).setCell ⟨w.heap.size,4,none⟩ (.bool false))=W:=⟨_,rfl⟩
      rw [hW] at hTk hBw
      have HTk:=Lib.hid hTk
      have HBw:=Lib.hid hBw
      have HWw:=Lib.hid hW
      clear hTk hBw hW
      go_wp2
      rw [HWw.out]
      refine bodyPost_ret (aw rfl _ _ w.heap.size ⟨2,aP nm,[],[],false⟩ none 0 0 rfl HTk.out) rfl ?_
      exact ⟨⟨2,aP nm,[],[],false⟩,none,0,0,_,true,rfl,av _,HV.out,HBw.out,.inr fun k hk=>by cases hk⟩
 ·have HV:=Lib.hid (ow s.data.toList a hb).1
  rw [xp _ _ (ow s.data.toList a hb).2] at HC
  clear hb
  go_enter Tryz.func122,Tryz.ntmps122
  go_wp2_with (go_at_call 163;refine (HC _).out.mono ?_;rintro e w' ⟨rfl,rfl⟩)
  refine bodyPost_ret (aw rfl _ _ w.heap.size aJ none 0 0 rfl (pB w aJ none 0 0 _)) rfl ?_
  exact ⟨aJ,none,0,0,a,false,rfl,av _,HV.out,(Below.refl _ w).alloc (Nat.le_refl _) _,.inr fun k hk=>by cases hk⟩
end Go.Proofs.YtajpoodpbbbkfaaGreatDoor
namespace Go.Proofs.YtajpoodpbbbkfaaGreatDoor
open Go.RowKit Go.Lib
theorem IV (s t:ByteArray):((s.extract 0 t.size).toList==t.toList)=t.data.toList.isPrefixOf s.data.toList:=by
 rw [ib,Lib.extract_data,List.drop_zero,Nat.sub_zero,Bool.eq_iff_iff,decide_eq_true_iff,List.isPrefixOf_iff_prefix,List.prefix_iff_eq_take,←Lib.size_eq]
 exact ⟨fun e=>e.symm,fun e=>e.symm⟩
theorem IW (s t:ByteArray):((s.extract (s.size-t.size) s.size).toList==t.toList)=t.data.toList.isSuffixOf s.data.toList:=by
 rw [ib,Lib.extract_data,Bool.eq_iff_iff,decide_eq_true_iff,List.isSuffixOf_iff_suffix,List.suffix_iff_eq_drop,←Lib.size_eq,←Lib.size_eq,List.take_of_length_le (by rw [List.length_drop,←Lib.size_eq];exact Nat.le_refl _)]
 exact ⟨fun e=>e.symm,fun e=>e.symm⟩
theorem IX (s t:ByteArray) (h:s.size<t.size):t.data.toList.isPrefixOf s.data.toList=false:=by
 rw [Bool.eq_false_iff];intro e
 have:=(List.isPrefixOf_iff_prefix.1 e).length_le
 rw [←Lib.size_eq,←Lib.size_eq] at this;omega
theorem IY (s t:ByteArray) (h:s.size<t.size):t.data.toList.isSuffixOf s.data.toList=false:=by
 rw [Bool.eq_false_iff];intro e
 have:=(List.isSuffixOf_iff_suffix.1 e).length_le
 rw [←Lib.size_eq,←Lib.size_eq] at this;omega
theorem lB (s t:ByteArray) (w:World) (_hs:s.size≤1099511627776) (ht:t.size≤1099511627776):Calls Tryz.prog 36 #[.string s,.string t] w fun e w'=>e= .returned (.bool (t.data.toList.isPrefixOf s.data.toList))∧w'=w:=by
 by_cases h:s.size<t.size
 ·rw [IX s t h]
  go_enter Tryz.func36,Tryz.ntmps36
  go_wp2
  go_ret
  exact ⟨rfl,rfl⟩
 ·obtain ⟨B,hB⟩:∃B,t.data.toList.isPrefixOf s.data.toList=B:=⟨_,rfl⟩
  have hE:=IV s t
  rw [hB] at hE⊢
  clear hB
  go_enter Tryz.func36,Tryz.ntmps36
  go_wp2
  go_ret
  exact ⟨rfl,rfl⟩
theorem ul (s t:ByteArray) (w:World) (hs:s.size≤1099511627776) (ht:t.size≤1099511627776):Calls Tryz.prog 197 #[.string s,.string t] w fun e w'=>e= .returned (.bool (t.data.toList.isSuffixOf s.data.toList))∧w'=w:=by
 by_cases h:s.size<t.size
 ·rw [IY s t h]
  go_enter Tryz.func197,Tryz.ntmps197
  go_wp2
  go_ret
  exact ⟨rfl,rfl⟩
 ·obtain ⟨B,hB⟩:∃B,t.data.toList.isSuffixOf s.data.toList=B:=⟨_,rfl⟩
  have hE:=IW s t
  rw [hB] at hE⊢
  clear hB
  go_enter Tryz.func197,Tryz.ntmps197
  go_wp2
  go_ret
  exact ⟨rfl,rfl⟩
theorem sF (c d:UInt8) (t:ab):gc (c::d::t)=(c==60&&(if d=33 then !(yn.isPrefixOf (aF t)) else if d=63 then true else if d=47 then t.head?.any (fun e=> !(e==62)&& !(bF (e.toNat:Int))) else false)):=by
 by_cases hc:c=60
 ·subst hc
  by_cases h1:d=33
  ·subst h1;rfl
  ·by_cases h2:d=63
   ·subst h2;rfl
   ·by_cases h3:d=47
    ·subst h3
     cases t with
     |nil=>rfl
     |cons e t=>rfl
    ·rw [if_neg h1,if_neg h2,if_neg h3,Bool.and_false]
     unfold gc
     split<;>simp_all
 ·rw [show (c==60)=false from beq_eq_false_iff_ne.2 hc,Bool.false_and]
  unfold gc
  split<;>simp_all
theorem iQ (t:ab) (h:t.length<2):gc t=false:=by
 match t,h with
 |[],_=>rfl
 |[c],_=>
  unfold gc
  split<;>simp_all
theorem On (s:ByteArray) (k:Nat) (h:k≤s.size):bf s (k:Int) ⟨#[100,111,99,116,121,112,101]⟩=yn.isPrefixOf (aF (s.data.toList.drop k)):=by
 unfold bf
 rw [decide_eq_true (show 0≤(k:Int)∧(k:Int)≤(s.size:Int) by omega),Bool.true_and,show ((k:Nat):Int).toNat=k by omega]
 rfl
theorem gV (s:ByteArray) (a:Int) (w:World) (hs:s.size≤1048576) (ha: -9223372036854775808≤a∧a≤9223372036854775807):Calls Tryz.prog 123 #[.string s,.int .i64 a] w fun e w'=>e= .returned (.bool (ee s.data.toList a))∧Below w.heap.size w w':=by
 by_cases hin:0≤a∧a<(s.size:Int)-1
 ·obtain ⟨k,rfl⟩:∃k:Nat,a=k:=⟨a.toNat,by omega⟩
  have hk:k<s.size:=by omega
  have hk1:k+1<s.size:=by omega
  have hkk:k≤1048576:=by omega
  rw [mn,aj s k hk,aj s (k+1) hk1,sF]
  have n0:decide ((k:Int)<0)=false:=decide_eq_false (by omega)
  have n1:decide ((s.size:Int)-1≤(k:Int))=false:=decide_eq_false (by omega)
  by_cases c60:s[k]=60
  ·have b60:(((s[k].toNat:Nat):Int) != 60)=false:=by rw [c60];rfl
   rw [show (s[k]==60)=true from beq_iff_eq.2 c60,Bool.true_and]
   by_cases c33:s[k+1]=33
   ·have b33:(((s[k+1].toNat:Nat):Int)==33)=true:=by rw [c33];rfl
    rw [if_pos c33]
    have HB:=fun w=>Lib.hid (gh s ((k:Int)+2) ⟨#[100,111,99,116,121,112,101]⟩ w (by omega) (by decide) (by omega) (by omega))
    rw [show (k:Int)+2=((k+2:Nat):Int) by omega,On s (k+2) (by omega)] at HB
    rw [show k+1+1=k+2 from rfl]
    obtain ⟨B,hB⟩:∃B,yn.isPrefixOf (aF (s.data.toList.drop (k+2)))=B:=⟨_,rfl⟩
    rw [hB] at HB⊢
    rw [show ((k+2:Nat):Int)=(k:Int)+2 by omega] at HB
    clear hB c60 c33 hin ha
    go_enter Tryz.func123,Tryz.ntmps123
    go_wp2_with (fail)
    refine (HB _).out.mono ?_
    rintro e w1 ⟨rfl,b1⟩
    go_wp2
    go_ret
    exact ⟨rfl,b1⟩
   ·have b33:(((s[k+1].toNat:Nat):Int)==33)=false:=by
     rw [beq_eq_false_iff_ne];exact fun h=>c33 (aT _ 33 (by decide) h)
    rw [if_neg c33]
    by_cases c63:s[k+1]=63
    ·have b63:(((s[k+1].toNat:Nat):Int)==63)=true:=by rw [c63];rfl
     rw [if_pos c63]
     clear c60 c33 c63 hin ha
     go_enter Tryz.func123,Tryz.ntmps123
     go_wp2
     go_ret
     exact ⟨rfl,Below.refl _ _⟩
    ·have b63:(((s[k+1].toNat:Nat):Int)==63)=false:=by
      rw [beq_eq_false_iff_ne];exact fun h=>c63 (aT _ 63 (by decide) h)
     rw [if_neg c63]
     by_cases c47:s[k+1]=47
     ·have b47:(((s[k+1].toNat:Nat):Int)==47)=true:=by rw [c47];rfl
      rw [if_pos c47]
      by_cases hk2:k+2<s.size
      ·have HL:=fun w=>Lib.hid (pu ((s[k+2].toNat:Nat):Int) w (by omega) (by have:=s[k+2].toNat_lt;omega))
       rw [show k+1+1=k+2 from rfl,aj s (k+2) hk2]
       simp only [List.head?_cons,Option.any_some]
       by_cases c62:s[k+2]=62
       ·have b62:(((s[k+2].toNat:Nat):Int) != 62)=false:=by rw [c62];rfl
        rw [show (s[k+2]==62)=true from beq_iff_eq.2 c62]
        clear c60 c33 c63 c47 c62 hin ha HL
        go_enter Tryz.func123,Tryz.ntmps123
        go_wp2
        go_ret
        exact ⟨rfl,Below.refl _ _⟩
       ·have b62:(((s[k+2].toNat:Nat):Int) != 62)=true:=by
         rw [bne_iff_ne];exact fun h=>c62 (aT _ 62 (by decide) h)
        rw [show (s[k+2]==62)=false from beq_eq_false_iff_ne.2 c62]
        obtain ⟨L,hL⟩:∃L,bF ((s[k+2].toNat:Nat):Int)=L:=⟨_,rfl⟩
        rw [hL] at HL⊢
        clear c60 c33 c63 c47 c62 hin ha hL
        go_enter Tryz.func123,Tryz.ntmps123
        go_wp2_with (fail)
        refine (HL _).out.mono ?_
        rintro e w1 ⟨rfl,rfl⟩
        go_wp2
        go_ret
        exact ⟨au (by simp),Below.refl _ _⟩
      ·rw [List.drop_eq_nil_of_le (i:=k+1+1) (by rw [←Lib.size_eq];omega)]
       have hk3:(s.size:Int)=(k:Int)+2:=by omega
       clear c60 c33 c63 c47 hin ha
       go_enter Tryz.func123,Tryz.ntmps123
       go_wp2
       go_ret
       exact ⟨rfl,Below.refl _ _⟩
     ·have b47:(((s[k+1].toNat:Nat):Int)==47)=false:=by
       rw [beq_eq_false_iff_ne];exact fun h=>c47 (aT _ 47 (by decide) h)
      rw [if_neg c47]
      clear c60 c33 c63 c47 hin ha
      go_enter Tryz.func123,Tryz.ntmps123
      go_wp2
      go_ret
      exact ⟨rfl,Below.refl _ _⟩
  ·have b60:(((s[k].toNat:Nat):Int) != 60)=true:=by
    rw [bne_iff_ne];exact fun h=>c60 (aT _ 60 (by decide) h)
   rw [show (s[k]==60)=false from beq_eq_false_iff_ne.2 c60,Bool.false_and]
   clear c60 hin ha
   go_enter Tryz.func123,Tryz.ntmps123
   go_wp2
   go_ret
   exact ⟨rfl,Below.refl _ _⟩
 ·have hV:ee s.data.toList a=false:=by
   unfold ee
   by_cases h0:0≤a
   ·rw [iQ _ (by rw [List.length_drop,←Lib.size_eq];omega),Bool.and_false]
   ·rw [decide_eq_false h0,Bool.false_and]
  rw [hV]
  clear hV
  by_cases h0:a<0
  ·go_enter Tryz.func123,Tryz.ntmps123
   go_wp2
   go_ret
   exact ⟨rfl,Below.refl _ _⟩
  ·have d0:decide (a<0)=false:=decide_eq_false h0
   have d1:decide ((s.size:Int)-1≤a)=true:=decide_eq_true (by omega)
   clear hin h0
   go_enter Tryz.func123,Tryz.ntmps123
   go_wp2
   go_ret
   exact ⟨rfl,Below.refl _ _⟩
theorem jP {a b:ByteArray} {m n:Int} (h1:a=b) (h2:m=n):Ending.returned (.tuple #[.string a,.int .i64 m])= .returned (.tuple #[.string b,.int .i64 n]):=by rw [h1,h2]
theorem Ft (s:ByteArray) (i:Nat) (h:i<s.size) (R:Option (ab × Nat)) (hR:(bV (s.data.toList.drop i)).map (fun r=>(s.data.toList.take i++r.1,r.2+i))=R) (h1:[45,45,62].isPrefixOf (s.data.toList.drop i)=false) (h2:[45,45,33,62].isPrefixOf (s.data.toList.drop i)=false):(bV (s.data.toList.drop (i+1))).map (fun r=>(s.data.toList.take (i+1)++r.1,r.2+(i+1)))=R:=by
 rw [aj s i h] at h1 h2 hR
 rw [pQ _ _ h1 h2] at hR
 rw [←hR]
 have ht:s.data.toList.take (i+1)=s.data.toList.take i++[s[i]]:=by
  rw [List.take_add_one,List.getElem?_eq_getElem (by rw [←Lib.size_eq];exact h)];rfl
 cases bV (s.data.toList.drop (i+1)) with
 |none=>rfl
 |some r=>simp [ht];omega
theorem sG (l:ab):([45,45,62].isPrefixOf l=true→bV l=some ([],3))∧([45,45,62].isPrefixOf l=false→[45,45,33,62].isPrefixOf l=true→bV l=some ([],4)):=by
 cases l with
 |nil=>exact ⟨fun h=>by simp [List.isPrefixOf] at h,fun _ h=>by simp [List.isPrefixOf] at h⟩
 |cons c t=>exact ⟨fun h=>by rw [bV,if_pos h],fun h1 h2=>by rw [bV,h1,if_neg Bool.false_ne_true,if_pos h2]⟩
theorem ft (s:ByteArray) (i:Nat):(s.extract i s.size).data.toList=s.data.toList.drop i:=by
 rw [Lib.extract_data,List.take_of_length_le (by rw [List.length_drop,←Lib.size_eq];exact Nat.le_refl _)]
theorem iD (s:ByteArray) (i:Nat):(s.extract 0 i).data.toList=s.data.toList.take i:=by
 rw [Lib.extract_data,List.drop_zero,Nat.sub_zero]
theorem sH (s : ByteArray) (w : World) (hs : s.size ≤ 1048576) :
    Calls Tryz.prog 168 #[.string s] w fun e w' => e = .returned (.tuple #[.string ⟨(aW s.data.toList).1.toArray⟩, .int .i64 ((aW s.data.toList).2 : Int)]) ∧ w' = w := by
  have HB := fun (x t : ByteArray) w h1 h2 => Lib.hid (lB x t w h1 h2)
  have HE := fun (t : ByteArray) w h2 => Lib.hid (ul s t w (by omega) h2)
  have HB1 := fun w => HB s ⟨#[62]⟩ w (by omega) (by decide)
  have HB2 := fun w => HB s ⟨#[45, 62]⟩ w (by omega) (by decide)
  obtain ⟨P, hP⟩ : ∃ P, aW s.data.toList = P := ⟨_, rfl⟩
  rw [hP]
  unfold aW at hP
  by_cases h1 : [62].isPrefixOf s.data.toList = true
  · rw [if_pos h1] at hP
    rw [show (⟨#[62]⟩ : ByteArray).data.toList.isPrefixOf s.data.toList = true from h1] at HB1
    subst hP
    clear h1 HB2 HE HB
    go_enter Tryz.func168, Tryz.ntmps168
    go_wp2_with (fail)
    refine (HB1 _).out.mono ?_
    rintro e w1 ⟨rfl, rfl⟩
    go_wp2
    go_ret2
    exact ⟨rfl, rfl⟩
  rw [if_neg h1] at hP
  rw [show (⟨#[62]⟩ : ByteArray).data.toList.isPrefixOf s.data.toList = false from Bool.eq_false_iff.2 h1] at HB1
  by_cases h2 : [45, 62].isPrefixOf s.data.toList = true
  · rw [if_pos h2] at hP
    rw [show (⟨#[45, 62]⟩ : ByteArray).data.toList.isPrefixOf s.data.toList = true from h2] at HB2
    subst hP
    clear h1 h2 HE HB
    go_enter Tryz.func168, Tryz.ntmps168
    go_wp2_with (fail)
    refine (HB1 _).out.mono ?_
    rintro e w1 ⟨rfl, rfl⟩
    go_wp2_with (fail)
    refine (HB2 _).out.mono ?_
    rintro e w1 ⟨rfl, rfl⟩
    go_wp2
    go_ret2
    exact ⟨rfl, rfl⟩
  rw [if_neg h2] at hP
  rw [show (⟨#[45, 62]⟩ : ByteArray).data.toList.isPrefixOf s.data.toList = false from Bool.eq_false_iff.2 h2] at HB2
  obtain ⟨R, hR⟩ : ∃ R, bV s.data.toList = R := ⟨_, rfl⟩
  rw [hR] at hP
  have HR := Lib.hid (show (bV (s.data.toList.drop 0)).map (fun r => (s.data.toList.take 0 ++ r.1, r.2 + 0)) = R by
    rw [List.drop_zero, ← hR]
    cases bV s.data.toList <;> simp)
  have HPS : Hid (∀ r, R = some r → r = P) := Lib.hid (fun r hr => by rw [hr] at hP; exact hP)
  have HPN : Hid (R = none → (g7 s.data.toList, s.data.toList.length) = P) := Lib.hid (fun hr => by rw [hr] at hP; exact hP)
  clear h1 h2 hR hP
  go_enter Tryz.func168, Tryz.ntmps168
  go_wp2_with (fail)
  refine (HB1 _).out.mono ?_
  rintro e w1 ⟨rfl, rfl⟩
  go_wp2_with (fail)
  refine (HB2 _).out.mono ?_
  rintro e w1 ⟨rfl, rfl⟩
  go_wp2
  go_loopw [4] (fun v wr => ∃ i : Nat, v = .int .i64 (i : Int) ∧ w1 = wr ∧ i ≤ s.size ∧ Hid ((bV (s.data.toList.drop i)).map (fun r => (s.data.toList.take i ++ r.1, r.2 + i)) = R)) (fun v _ => s.size - (ae v).toNat)
  case atStart => exact ⟨0, rfl, rfl, Nat.zero_le _, HR⟩
  case round =>
    obtain ⟨i, rfl, rfl, hi, HI⟩ := hrel
    by_cases hlt : i < s.size
    · have HX3 := fun w => HB (s.extract i s.size) ⟨#[45, 45, 62]⟩ w (by rw [ByteArray.size_extract]; omega) (by decide)
      have HX4 := fun w => HB (s.extract i s.size) ⟨#[45, 45, 33, 62]⟩ w (by rw [ByteArray.size_extract]; omega) (by decide)
      rw [ft] at HX3 HX4
      have hlt2 : (i : Int) < (s.size : Int) := by omega
      by_cases h3 : [45, 45, 62].isPrefixOf (s.data.toList.drop i) = true
      · rw [show (⟨#[45, 45, 62]⟩ : ByteArray).data.toList.isPrefixOf (s.data.toList.drop i) = true from h3] at HX3
        have HP := Lib.hid (HPS.out (s.data.toList.take i, 3 + i) (by
          have := HI.out
          rw [(sG _).1 h3] at this
          simpa using this.symm))
        clear h3 HX4 HB
        go_wp2_with (fail)
        refine (HX3 _).out.mono ?_
        rintro e w1 ⟨rfl, rfl⟩
        go_wp2
        go_ret2
        exact ⟨jP (by rw [← HP.out]; exact bl (by rw [iD, List.toList_toArray])) (by rw [← HP.out]; show _ = ((3 + i : Nat) : Int); omega), rfl⟩
      · have h3 := Bool.eq_false_iff.2 h3
        rw [show (⟨#[45, 45, 62]⟩ : ByteArray).data.toList.isPrefixOf (s.data.toList.drop i) = false from h3] at HX3
        by_cases h4 : [45, 45, 33, 62].isPrefixOf (s.data.toList.drop i) = true
        · rw [show (⟨#[45, 45, 33, 62]⟩ : ByteArray).data.toList.isPrefixOf (s.data.toList.drop i) = true from h4] at HX4
          have HP := Lib.hid (HPS.out (s.data.toList.take i, 4 + i) (by
            have := HI.out
            rw [(sG _).2 h3 h4] at this
            simpa using this.symm))
          clear h3 h4 HB
          go_wp2_with (fail)
          refine (HX3 _).out.mono ?_
          rintro e w1 ⟨rfl, rfl⟩
          go_wp2_with (fail)
          refine (HX4 _).out.mono ?_
          rintro e w1 ⟨rfl, rfl⟩
          go_wp2
          go_ret2
          exact ⟨jP (by rw [← HP.out]; exact bl (by rw [iD, List.toList_toArray])) (by rw [← HP.out]; show _ = ((4 + i : Nat) : Int); omega), rfl⟩
        · have h4 := Bool.eq_false_iff.2 h4
          rw [show (⟨#[45, 45, 33, 62]⟩ : ByteArray).data.toList.isPrefixOf (s.data.toList.drop i) = false from h4] at HX4
          have HN := Lib.hid (Ft s i hlt R HI.out h3 h4)
          clear h3 h4 HB
          go_wp2_with (fail)
          refine (HX3 _).out.mono ?_
          rintro e w1 ⟨rfl, rfl⟩
          go_wp2_with (fail)
          refine (HX4 _).out.mono ?_
          rintro e w1 ⟨rfl, rfl⟩
          go_wp2
          go_roundw
          case rel => exact ⟨i + 1, by go_num, trivial, by omega, HN⟩
          case measure => simp [ae]; omega
    · obtain rfl : i = s.size := by omega
      have HP := Lib.hid (HPN.out (by
        have := HI.out
        rw [List.drop_eq_nil_of_le (by rw [← Lib.size_eq]; exact Nat.le_refl _)] at this
        exact this.symm))
      have hT : g7 s.data.toList = P.1 ∧ s.size = P.2 := by rw [← HP.out, ← Lib.size_eq]; exact ⟨rfl, rfl⟩
      unfold g7 at hT
      rw [← Lib.size_eq] at hT
      have g3 : [45, 45, 33].isSuffixOf s.data.toList = true → 3 ≤ s.size := fun h => by
        have := (List.isSuffixOf_iff_suffix.1 h).length_le
        rw [← Lib.size_eq] at this; exact this
      have g2 : [45, 45].isSuffixOf s.data.toList = true → 2 ≤ s.size := fun h => by
        have := (List.isSuffixOf_iff_suffix.1 h).length_le
        rw [← Lib.size_eq] at this; exact this
      have g1 : [45].isSuffixOf s.data.toList = true → 1 ≤ s.size := fun h => by
        have := (List.isSuffixOf_iff_suffix.1 h).length_le
        rw [← Lib.size_eq] at this; exact this
      have HE3 := fun w => HE ⟨#[45, 45, 33]⟩ w (by decide)
      have HE2 := fun w => HE ⟨#[45, 45]⟩ w (by decide)
      have HE1 := fun w => HE ⟨#[45]⟩ w (by decide)
      by_cases e3 : [45, 45, 33].isSuffixOf s.data.toList = true
      · rw [if_pos e3] at hT
        have := g3 e3
        rw [show (⟨#[45, 45, 33]⟩ : ByteArray).data.toList.isSuffixOf s.data.toList = true from e3] at HE3
        have HTT := Lib.hid hT
        have hx : ((s.size : Int) - 3).toNat = s.size - 3 := by omega
        clear hT e3 g1 g2 g3 HE HE1 HE2 HB
        go_wp2_with (fail)
        refine (HE3 _).out.mono ?_
        rintro e w1 ⟨rfl, rfl⟩
        go_wp2
        go_ret2
        exact ⟨jP (by rw [← HTT.out.1]; exact bl (by rw [iD, List.toList_toArray])) (by rw [← HTT.out.2]), rfl⟩
      rw [if_neg e3] at hT
      rw [show (⟨#[45, 45, 33]⟩ : ByteArray).data.toList.isSuffixOf s.data.toList = false from Bool.eq_false_iff.2 e3] at HE3
      by_cases e2 : [45, 45].isSuffixOf s.data.toList = true
      · rw [if_pos e2] at hT
        have := g2 e2
        rw [show (⟨#[45, 45]⟩ : ByteArray).data.toList.isSuffixOf s.data.toList = true from e2] at HE2
        have HTT := Lib.hid hT
        have hx : ((s.size : Int) - 2).toNat = s.size - 2 := by omega
        clear hT e3 e2 g1 g2 g3 HE HE1 HB
        go_wp2_with (fail)
        refine (HE3 _).out.mono ?_
        rintro e w1 ⟨rfl, rfl⟩
        go_wp2_with (fail)
        refine (HE2 _).out.mono ?_
        rintro e w1 ⟨rfl, rfl⟩
        go_wp2
        go_ret2
        exact ⟨jP (by rw [← HTT.out.1]; exact bl (by rw [iD, List.toList_toArray])) (by rw [← HTT.out.2]), rfl⟩
      rw [if_neg e2] at hT
      rw [show (⟨#[45, 45]⟩ : ByteArray).data.toList.isSuffixOf s.data.toList = false from Bool.eq_false_iff.2 e2] at HE2
      by_cases e1 : [45].isSuffixOf s.data.toList = true
      · rw [if_pos e1] at hT
        have := g1 e1
        rw [show (⟨#[45]⟩ : ByteArray).data.toList.isSuffixOf s.data.toList = true from e1] at HE1
        have HTT := Lib.hid hT
        have hx : ((s.size : Int) - 1).toNat = s.size - 1 := by omega
        clear hT e3 e2 e1 g1 g2 g3 HE HB
        go_wp2_with (fail)
        refine (HE3 _).out.mono ?_
        rintro e w1 ⟨rfl, rfl⟩
        go_wp2_with (fail)
        refine (HE2 _).out.mono ?_
        rintro e w1 ⟨rfl, rfl⟩
        go_wp2_with (fail)
        refine (HE1 _).out.mono ?_
        rintro e w1 ⟨rfl, rfl⟩
        go_wp2
        go_ret2
        exact ⟨jP (by rw [← HTT.out.1]; exact bl (by rw [iD, List.toList_toArray])) (by rw [← HTT.out.2]), rfl⟩
      · rw [if_neg e1] at hT
        rw [show (⟨#[45]⟩ : ByteArray).data.toList.isSuffixOf s.data.toList = false from Bool.eq_false_iff.2 e1] at HE1
        have HTT := Lib.hid hT
        clear hT e3 e2 e1 g1 g2 g3 HE HB
        go_wp2_with (fail)
        refine (HE3 _).out.mono ?_
        rintro e w1 ⟨rfl, rfl⟩
        go_wp2_with (fail)
        refine (HE2 _).out.mono ?_
        rintro e w1 ⟨rfl, rfl⟩
        go_wp2_with (fail)
        refine (HE1 _).out.mono ?_
        rintro e w1 ⟨rfl, rfl⟩
        go_wp2
        go_ret2
        exact ⟨jP (by rw [← HTT.out.1]) (by rw [← HTT.out.2]), rfl⟩
end Go.Proofs.YtajpoodpbbbkfaaGreatDoor
namespace Go.Proofs.YtajpoodpbbbkfaaGreatDoor
open Go.RowKit Go.Lib
def ik (l : ab) (f : Nat) : Nat := f + ((l.drop f).takeWhile (· != 62)).length
theorem zM (s:ByteArray) (i:Nat) (h:i<s.size) (hp:s[i]≠62):ik s.data.toList i=ik s.data.toList (i+1):=by
 unfold ik
 rw [aj s i h,List.takeWhile_cons,if_pos (by simpa using hp),List.length_cons];omega
theorem DY (s:ByteArray) (i:Nat) (h:i<s.size) (hp:s[i]=62):ik s.data.toList i=i:=by
 unfold ik
 rw [aj s i h,List.takeWhile_cons,if_neg (by simp [hp])];rfl
theorem zN (s:ByteArray):ik s.data.toList s.size=s.size:=by
 unfold ik
 rw [List.drop_eq_nil_of_le (by rw [←Lib.size_eq];exact Nat.le_refl _)];rfl
theorem BX (s : ByteArray) (f : Nat) (hf : f ≤ s.size) : f ≤ ik s.data.toList f ∧ ik s.data.toList f ≤ s.size ∧ (eh (s.data.toList.drop f)).1 = (s.extract f (ik s.data.toList f)).data.toList ∧
    f + (eh (s.data.toList.drop f)).2 = if ik s.data.toList f < s.size then ik s.data.toList f + 1 else s.size := by
  have h1 : (List.takeWhile (· != 62) (s.data.toList.drop f)).length + (List.dropWhile (· != 62) (s.data.toList.drop f)).length = s.size - f := by
    rw [← List.length_append, List.takeWhile_append_dropWhile, List.length_drop, ← Lib.size_eq]
  have h2 := List.length_tail (l := List.dropWhile (· != 62) (s.data.toList.drop f))
  have e1 : ik s.data.toList f = f + (List.takeWhile (· != 62) (s.data.toList.drop f)).length := rfl
  refine ⟨by omega, by omega, ?_, ?_⟩
  · rw [Lib.extract_data, e1, Nat.add_sub_cancel_left]
    unfold eh
    conv => rhs; arg 2; rw [← List.takeWhile_append_dropWhile (p := (· != 62)) (l := s.data.toList.drop f)]
    rw [List.take_left]
  · unfold eh
    simp only [List.length_drop, ← Lib.size_eq, h2]
    split <;> omega
theorem um (s : ByteArray) (a : Int) (w : World) (hs : s.size ≤ 1048576) (ha : -9223372036854775808 ≤ a ∧ a ≤ 9223372036854775807) :
    Calls Tryz.prog 124 #[.string s, .int .i64 a] w (mV (kX s.data.toList a) w) := by
  have HBg := fun w => Lib.hid (gV s a w hs ha)
  cases hb : ee s.data.toList a
  · rw [hb] at HBg
    have HV := Lib.hid (IF s.data.toList a hb)
    clear hb ha
    go_enter Tryz.func124, Tryz.ntmps124
    go_wp2_with (fail)
    refine (HBg _).out.mono ?_
    rintro e w1 ⟨rfl, b1⟩
    have HB := Lib.hid ((b1.block _ (by simp)).trans (heap_alloc_new w _))
    have B1 := Lib.hid (((Below.refl _ w).alloc (Nat.le_refl _) _).trans (b1.mono (by simp)))
    clear b1
    go_wp2_with (refine ak rfl _ _ rfl w.heap.size aJ none 0 0 rfl rfl _ HB.out rfl ?_; intro w2 hb2 hg2)
    have B2 := B1.out.grown hg2 B1.out.size (fun j hj => by cases hj; exact Nat.le_refl _)
    refine bodyPost_ret (aw rfl _ _ w.heap.size aJ none 0 0 rfl (aN hb2)) rfl ?_
    exact ⟨aJ, none, 0, 0, _, false, rfl, av _, HV.out, B2⟩
  obtain ⟨k, rfl⟩ : ∃ k : Nat, a = k := ⟨a.toNat, by
    unfold ee at hb
    rw [Bool.and_eq_true, decide_eq_true_iff] at hb; omega⟩
  rw [hb] at HBg
  rw [mn] at hb
  have hk1 : k + 1 < s.size := Nat.lt_of_not_le fun h => by
    rw [iQ _ (by rw [List.length_drop, ← Lib.size_eq]; omega)] at hb; cases hb
  have hk : k ≤ 1048576 := by omega
  have hv := BI s.data.toList k hb
  have HX := fun w => Lib.hid (lB (s.extract k s.size) ⟨#[60, 33, 45, 45]⟩ w (by rw [ByteArray.size_extract]; omega) (by decide))
  rw [ft] at HX
  unfold fB at hv
  clear ha hb
  by_cases hp : [60, 33, 45, 45].isPrefixOf (s.data.toList.drop k) = true
  · rw [if_pos hp] at hv
    rw [show (⟨#[60, 33, 45, 45]⟩ : ByteArray).data.toList.isPrefixOf (s.data.toList.drop k) = true from hp] at HX
    have hk4 : k + 4 ≤ s.size := by
      have := (List.isPrefixOf_iff_prefix.1 hp).length_le
      rw [List.length_drop, ← Lib.size_eq] at this
      simp at this; omega
    have HP := fun w => Lib.hid (sH (s.extract (k + 4) s.size) w (by rw [ByteArray.size_extract]; omega))
    rw [ft] at HP
    rw [List.drop_drop] at hv
    have hn := DO (s.data.toList.drop (k + 4))
    have hl := zy (s.data.toList.drop (k + 4))
    rw [List.length_drop, ← Lib.size_eq] at hn hl
    obtain ⟨T, hT⟩ : ∃ T, (aW (s.data.toList.drop (k + 4))).1 = T := ⟨_, rfl⟩
    obtain ⟨N, hN⟩ : ∃ N, (aW (s.data.toList.drop (k + 4))).2 = N := ⟨_, rfl⟩
    rw [hT, hN] at HP hv
    rw [hT] at hl
    rw [hN] at hn
    have HV := Lib.hid (show kX s.data.toList (k : Int) = (iY T, (k : Int) + 4 + (N : Int), true) by
      rw [hv]; simp only [Prod.mk.injEq, true_and, and_true]; omega)
    have HC := fun w => Lib.hid (bc ⟨T.toArray⟩ w (by rw [Lib.size_eq, List.toList_toArray]; omega))
    rw [List.toList_toArray] at HC
    obtain ⟨TB, hTB⟩ : ∃ TB : ByteArray, ⟨T.toArray⟩ = TB := ⟨_, rfl⟩
    rw [hTB] at HP HC
    have hkk : (k : Int) + 4 ≤ (s.size : Int) := by omega
    clear hp hv hT hN hTB hl
    go_enter Tryz.func124, Tryz.ntmps124
    go_wp2_with (fail)
    refine (HBg _).out.mono ?_
    rintro e w1 ⟨rfl, b1⟩
    have HB := Lib.hid ((b1.block _ (by simp)).trans (heap_alloc_new w _))
    have B1 := Lib.hid (((Below.refl _ w).alloc (Nat.le_refl _) _).trans (b1.mono (by simp)))
    have hlt1 : w.heap.size < w1.heap.size := (Array.getElem?_eq_some_iff.1 HB.out).1
    clear b1
    go_wp2_with (fail)
    refine (HX _).out.mono ?_
    rintro e w2 ⟨rfl, rfl⟩
    go_wp2_with (fail)
    refine (HP _).out.mono ?_
    rintro e w3 ⟨rfl, rfl⟩
    go_wp2_with (fail)
    refine (HC _).out.mono ?_
    rintro e w4 ⟨rfl, b4⟩
    have HB4 := Lib.hid ((b4.block _ hlt1).trans HB.out)
    have B4 := Lib.hid (B1.out.trans (b4.mono B1.out.size))
    clear b4
    go_wp2_with (refine ak rfl _ _ rfl w.heap.size (iY T) none 0 0 rfl rfl _ HB4.out rfl ?_; intro w5 hb5 hg5)
    have B5 := B4.out.grown hg5 B4.out.size (fun j hj => by cases hj; exact Nat.le_refl _)
    refine bodyPost_ret (aw rfl _ _ w.heap.size (iY T) none 0 0 rfl (aN hb5)) rfl ?_
    exact ⟨iY T, none, 0, 0, _, true, rfl, av _, HV.out, B5⟩
  · rw [if_neg hp] at hv
    rw [show (⟨#[60, 33, 45, 45]⟩ : ByteArray).data.toList.isPrefixOf (s.data.toList.drop k) = false from Bool.eq_false_iff.2 hp] at HX
    have hh : ((s.data.toList.drop k).drop 1).head? = some s[k + 1] := by rw [List.drop_drop, aj s (k + 1) hk1]; rfl
    rw [hh, List.drop_drop, List.drop_drop] at hv
    obtain ⟨f, hf, hfk, hv2⟩ : ∃ f, (f = k + 1 ∧ s[k + 1] = 63 ∨ f = k + 2 ∧ s[k + 1] ≠ 63) ∧ f ≤ s.size ∧ kX s.data.toList (k : Int) = (iY (eh (s.data.toList.drop f)).1, ((f + (eh (s.data.toList.drop f)).2 : Nat) : Int), true) := by
      by_cases h63 : s[k + 1] = 63
      · rw [if_pos (by rw [h63])] at hv
        refine ⟨k + 1, .inl ⟨rfl, h63⟩, by omega, ?_⟩
        rw [hv]
        simp only [Prod.mk.injEq, true_and, and_true]; omega
      · rw [if_neg (fun e => h63 (Option.some.inj e))] at hv
        refine ⟨k + 2, .inr ⟨rfl, h63⟩, by omega, ?_⟩
        rw [hv]
        simp only [Prod.mk.injEq, true_and, and_true]; omega
    clear hv
    obtain ⟨b1, b2, b3, b4⟩ := BX s f hfk
    rw [b3, b4] at hv2
    obtain ⟨E, hE⟩ : ∃ E, ik s.data.toList f = E := ⟨_, rfl⟩
    rw [hE] at hv2 b1 b2
    have HE := Lib.hid hE
    have HC := fun w => Lib.hid (bc (s.extract f E) w (by rw [ByteArray.size_extract]; omega))
    have HV := Lib.hid hv2
    have hf2 : f ≤ 1048576 := by omega
    have hcase : (f = k + 1 ∧ (((s[k + 1].toNat : Nat) : Int) == 63) = true) ∨ (f = k + 2 ∧ (((s[k + 1].toNat : Nat) : Int) == 63) = false) := by
      rcases hf with ⟨h1, h2⟩ | ⟨h1, h2⟩
      · exact .inl ⟨h1, by rw [h2]; rfl⟩
      · exact .inr ⟨h1, by rw [beq_eq_false_iff_ne]; exact fun h => h2 (aT _ 63 (by decide) h)⟩
    clear hp hh hv2 hE b3 b4 hf
    rcases hcase with ⟨hfe, h63⟩ | ⟨hfe, h63⟩
    · have HFE := Lib.hid hfe
      subst hfe
      go_enter Tryz.func124, Tryz.ntmps124
      go_wp2_with (fail)
      refine (HBg _).out.mono ?_
      rintro e w1 ⟨rfl, bb1⟩
      have HB := Lib.hid ((bb1.block _ (by simp)).trans (heap_alloc_new w _))
      have B1 := Lib.hid (((Below.refl _ w).alloc (Nat.le_refl _) _).trans (bb1.mono (by simp)))
      have hlt1 : w.heap.size < w1.heap.size := (Array.getElem?_eq_some_iff.1 HB.out).1
      clear bb1
      go_wp2_with (fail)
      refine (HX _).out.mono ?_
      rintro e w2 ⟨rfl, rfl⟩
      go_wp2
      go_loopw [11] (fun v wr => ∃ i : Nat, v = .int .i64 (i : Int) ∧ w2 = wr ∧ i ≤ s.size ∧ k + 1 ≤ i ∧ Hid (ik s.data.toList i = E)) (fun v _ => s.size - (ae v).toNat)
      case atStart => exact ⟨_, by go_num, rfl, hfk, Nat.le_refl _, HE⟩
      case round =>
        obtain ⟨i, rfl, rfl, hi, hKi, HI⟩ := hrel
        by_cases hlt : i < s.size
        focus
          by_cases c62 : s[i] = 62
        focus
          have b62 : (((s[i].toNat : Nat) : Int) == 62) = true := by rw [c62]; rfl
          have HEi := Lib.hid ((DY s i hlt c62).symm.trans HI.out)
          have HV2 : Hid (kX s.data.toList (k : Int) = (iY (s.extract (k + 1) i).data.toList, (i : Int) + 1, true)) := Lib.hid (by
            rw [HV.out, ← HEi.out, if_pos hlt, Int.natCast_add]; rfl)
          have HC := fun w => Lib.hid (bc (s.extract (k + 1) i) w (by rw [ByteArray.size_extract]; omega))
          have ht : iY (s.extract (k + 1) i).data.toList = ⟨3, [], ap (s.extract (k + 1) i).data.toList, [], false⟩ := rfl
          obtain ⟨X, hX⟩ : ∃ X, ap (s.extract (k + 1) i).data.toList = X := ⟨_, rfl⟩
          rw [hX] at HC ht
          rw [ht] at HV2
          clear c62 ht hX
        rotate_left
        · have b62 : (((s[i].toNat : Nat) : Int) == 62) = false := by
            rw [beq_eq_false_iff_ne]; exact fun h => c62 (aT _ 62 (by decide) h)
          have HN := Lib.hid ((zM s i hlt c62).symm.trans HI.out)
          clear c62
          go_wp2
          go_roundw
          case rel => exact ⟨i + 1, by go_num, trivial, by omega, by omega, HN⟩
          case measure => simp [ae]; omega
        focus
          obtain rfl : i = s.size := by omega
          have HEi := Lib.hid ((zN s).symm.trans HI.out)
          have HV2 : Hid (kX s.data.toList (k : Int) = (iY (s.extract (k + 1) s.size).data.toList, (s.size : Int), true)) := Lib.hid (by
            rw [HV.out, ← HEi.out, if_neg (by omega)])
          have HC := fun w => Lib.hid (bc (s.extract (k + 1) s.size) w (by rw [ByteArray.size_extract]; omega))
          have ht : iY (s.extract (k + 1) s.size).data.toList = ⟨3, [], ap (s.extract (k + 1) s.size).data.toList, [], false⟩ := rfl
          obtain ⟨X, hX⟩ : ∃ X, ap (s.extract (k + 1) s.size).data.toList = X := ⟨_, rfl⟩
          rw [hX] at HC ht
          rw [ht] at HV2
          clear ht hX
        rotate_left
        all_goals
          go_wp2_with (fail)
          refine (HC _).out.mono ?_
          rintro e w4 ⟨rfl, b4⟩
          have HB4 := Lib.hid ((b4.block _ hlt1).trans HB.out)
          have B4 := Lib.hid (B1.out.trans (b4.mono B1.out.size))
          clear b4
          go_wp2_with (refine ak rfl _ _ rfl w.heap.size ⟨3, [], X, [], false⟩ none 0 0 rfl rfl _ HB4.out rfl ?_; intro w5 hb5 hg5)
          have B5 := B4.out.grown hg5 B4.out.size (fun j hj => by cases hj; exact Nat.le_refl _)
          refine bodyPost_ret (aw rfl _ _ w.heap.size ⟨3, [], X, [], false⟩ none 0 0 rfl (aN hb5)) rfl ?_
          exact ⟨⟨3, [], X, [], false⟩, none, 0, 0, _, true, rfl, av _, HV2.out, B5⟩
    · have HFE := Lib.hid hfe
      subst hfe
      go_enter Tryz.func124, Tryz.ntmps124
      go_wp2_with (fail)
      refine (HBg _).out.mono ?_
      rintro e w1 ⟨rfl, bb1⟩
      have HB := Lib.hid ((bb1.block _ (by simp)).trans (heap_alloc_new w _))
      have B1 := Lib.hid (((Below.refl _ w).alloc (Nat.le_refl _) _).trans (bb1.mono (by simp)))
      have hlt1 : w.heap.size < w1.heap.size := (Array.getElem?_eq_some_iff.1 HB.out).1
      clear bb1
      go_wp2_with (fail)
      refine (HX _).out.mono ?_
      rintro e w2 ⟨rfl, rfl⟩
      go_wp2
      go_loopw [11] (fun v wr => ∃ i : Nat, v = .int .i64 (i : Int) ∧ w2 = wr ∧ i ≤ s.size ∧ k + 2 ≤ i ∧ Hid (ik s.data.toList i = E)) (fun v _ => s.size - (ae v).toNat)
      case atStart => exact ⟨_, by go_num, rfl, hfk, Nat.le_refl _, HE⟩
      case round =>
        obtain ⟨i, rfl, rfl, hi, hKi, HI⟩ := hrel
        by_cases hlt : i < s.size
        focus
          by_cases c62 : s[i] = 62
        focus
          have b62 : (((s[i].toNat : Nat) : Int) == 62) = true := by rw [c62]; rfl
          have HEi := Lib.hid ((DY s i hlt c62).symm.trans HI.out)
          have HV2 : Hid (kX s.data.toList (k : Int) = (iY (s.extract (k + 2) i).data.toList, (i : Int) + 1, true)) := Lib.hid (by
            rw [HV.out, ← HEi.out, if_pos hlt, Int.natCast_add]; rfl)
          have HC := fun w => Lib.hid (bc (s.extract (k + 2) i) w (by rw [ByteArray.size_extract]; omega))
          have ht : iY (s.extract (k + 2) i).data.toList = ⟨3, [], ap (s.extract (k + 2) i).data.toList, [], false⟩ := rfl
          obtain ⟨X, hX⟩ : ∃ X, ap (s.extract (k + 2) i).data.toList = X := ⟨_, rfl⟩
          rw [hX] at HC ht
          rw [ht] at HV2
          clear c62 ht hX
        rotate_left
        · have b62 : (((s[i].toNat : Nat) : Int) == 62) = false := by
            rw [beq_eq_false_iff_ne]; exact fun h => c62 (aT _ 62 (by decide) h)
          have HN := Lib.hid ((zM s i hlt c62).symm.trans HI.out)
          clear c62
          go_wp2
          go_roundw
          case rel => exact ⟨i + 1, by go_num, trivial, by omega, by omega, HN⟩
          case measure => simp [ae]; omega
        focus
          obtain rfl : i = s.size := by omega
          have HEi := Lib.hid ((zN s).symm.trans HI.out)
          have HV2 : Hid (kX s.data.toList (k : Int) = (iY (s.extract (k + 2) s.size).data.toList, (s.size : Int), true)) := Lib.hid (by
            rw [HV.out, ← HEi.out, if_neg (by omega)])
          have HC := fun w => Lib.hid (bc (s.extract (k + 2) s.size) w (by rw [ByteArray.size_extract]; omega))
          have ht : iY (s.extract (k + 2) s.size).data.toList = ⟨3, [], ap (s.extract (k + 2) s.size).data.toList, [], false⟩ := rfl
          obtain ⟨X, hX⟩ : ∃ X, ap (s.extract (k + 2) s.size).data.toList = X := ⟨_, rfl⟩
          rw [hX] at HC ht
          rw [ht] at HV2
          clear ht hX
        rotate_left
        all_goals
          go_wp2_with (fail)
          refine (HC _).out.mono ?_
          rintro e w4 ⟨rfl, b4⟩
          have HB4 := Lib.hid ((b4.block _ hlt1).trans HB.out)
          have B4 := Lib.hid (B1.out.trans (b4.mono B1.out.size))
          clear b4
          go_wp2_with (refine ak rfl _ _ rfl w.heap.size ⟨3, [], X, [], false⟩ none 0 0 rfl rfl _ HB4.out rfl ?_; intro w5 hb5 hg5)
          have B5 := B4.out.grown hg5 B4.out.size (fun j hj => by cases hj; exact Nat.le_refl _)
          refine bodyPost_ret (aw rfl _ _ w.heap.size ⟨3, [], X, [], false⟩ none 0 0 rfl (aN hb5)) rfl ?_
          exact ⟨⟨3, [], X, [], false⟩, none, 0, 0, _, true, rfl, av _, HV2.out, B5⟩
end Go.Proofs.YtajpoodpbbbkfaaGreatDoor
