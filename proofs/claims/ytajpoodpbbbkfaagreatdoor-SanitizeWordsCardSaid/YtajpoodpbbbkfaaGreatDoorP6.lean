/-
  Texts laid together: RefMath, RefCode, RefDoc, RefDecD, RefDec, RefLaid.
-/
import Derived.Test.YtajpoodpbbbkfaaGreatDoorP5
import Derived.Test.YtajpoodpbbbkfaaGreatDoorP2
import Derived.KernelRfl
import Derived.Test.YtajpoodpbbbkfaaGreatDoorP1
import Derived.Test.YtajpoodpbbbkfaaGreatDoorP4
import Derived.Test.YtajpoodpbbbkfaaGreatDoorP3
import Derived.Shelf.Strings.MapGrows
import Derived.Test.YtajpoodpbbbkfaaGreatDoorTie
import Derived.Test.YtajpoodpbbbkfaaGreatDoorMaxLen
import Derived.ProofKit
import Derived.OpenShut
import Derived.Deep.DeepHandedRow
import Derived.LaidMore
import Derived.LaidLaws
import Derived.RowKitTokens
import Derived.Lib.LaidTab
set_option maxHeartbeats 4000000
set_option maxRecDepth 1000000
namespace Go.Proofs.YtajpoodpbbbkfaaGreatDoor
open Go.RowKit Go.Lib
def mY (c:UInt8):Bool:=Nat.ble 48 c.toNat&&Nat.ble c.toNat 57||(Nat.ble 65 c.toNat&&Nat.ble c.toNat 90||Nat.ble 97 c.toNat&&Nat.ble c.toNat 122)
theorem vk (c:UInt8):rJ (c.toNat:Int)=mY c:=by
 unfold rJ bF k8 mY
 rw [Bool.eq_iff_iff]
 simp only [Bool.or_eq_true,Bool.and_eq_true,decide_eq_true_eq,Nat.ble_eq]
 omega
def O2:ab→Bool
 |[]=>false
 |c::t=>mY c&&t.all fun x=>mY x||x==59
theorem Lr:af.all (fun r=>O2 r.1)=true:=by kernel_rfl
theorem y6 (r:Ln) (hr:r∈af):∃c t,r.1=c::t∧mY c=true∧∀x∈t,mY x=true∨x=59:=by
 have h:=List.all_eq_true.1 Lr r hr
 cases e:r.1 with
 |nil=>rw [e] at h;exact absurd h (by decide)
 |cons c t=>
  rw [e,O2,Bool.and_eq_true,List.all_eq_true] at h
  refine ⟨c,t,rfl,h.1,fun x hx=>?_⟩
  have:=h.2 x hx
  rw [Bool.or_eq_true,beq_iff_eq] at this
  exact this
theorem y7 (r:Ln) (hr:r∈af) (x:UInt8) (hx:x∈r.1):mY x=true∨x=59:=by
 obtain ⟨c,t,e,h1,h2⟩:=y6 r hr
 rw [e] at hx
 rcases List.mem_cons.1 hx with rfl|hx
 ·exact .inl h1
 ·exact h2 x hx
theorem nr (p z:ab) (i:Nat):(p++z).getD (p.length+i) 0=z.getD i 0:=by
 rw [List.getD_eq_getElem?_getD,List.getElem?_append_right (by omega),List.getD_eq_getElem?_getD]
 congr 2;omega
theorem pG (p z:ab) (i:Nat):nR (p++z) (p.length+i)=nR z i:=by
 unfold nR;rw [nr]
theorem sk (p z:ab):bD (p++z) p.length=p.length+bD z 0:=by
 unfold bD
 rw [pG p z 1]
 split<;>omega
theorem ky (p z:ab):aD (p++z) p.length=aD z 0:=by
 unfold aD
 rw [pG p z 1,sk,←List.drop_drop,List.drop_left]
theorem EY (p z:ab):cH (p++z) p.length=p.length+cH z 0:=by
 rw [wX,wX,ky,sk,Nat.add_assoc,nr]
 split<;>omega
theorem EZ (p z:ab):aX (p++z) (p.length:Int)=aX z 0∧fK (p++z) p.length=fK z 0:=by
 constructor
 ·unfold aX
  rw [show ((p.length:Nat):Int).toNat=p.length+0 by omega,nr,Nat.add_zero,ky,show (0:Int).toNat=0 from rfl]
  exact decide_eq_decide.2 ⟨fun h=>⟨by omega,h.2⟩,fun h=>⟨by omega,h.2⟩⟩
 ·unfold fK
  rw [pG p z 1,ky]
def lu:ab→Bool
 |[]=>false
 |c::_=>c==61||mY c
noncomputable def mZ (z:ab) (attr:Bool):Bool:=attr&& !hasSuffix (z.take (aL af z)) [59]&&lu (z.drop (aL af z))
noncomputable def ce (z:ab):Nat:=if aX z 0 then cH z 0 else aL af z
noncomputable def cO (z:ab) (attr:Bool):ab:=
 if aX z 0 then (fh (fK z 0)).data.toList
 else if aL af z=0 then [38]
 else if mZ z attr then 38::z.take (aL af z)
 else dC (pr (am (z.take (aL af z)))) (nQ (am (z.take (aL af z))))
theorem sm (z:ab) (h:aX z 0=true):2≤cH z 0∧cH z 0≤z.length:=by
 have h1:=Ie ⟨z.toArray⟩ 0 (by rw [List.toList_toArray];exact h)
 have hs:(ByteArray.mk z.toArray).size=z.length:=by rw [Lib.size_eq,List.toList_toArray]
 obtain ⟨a,b,-⟩:=h1
 rw [hs] at b
 exact ⟨a,b⟩
theorem oh (z:ab):ce z≤z.length:=by
 unfold ce
 by_cases h:aX z 0=true
 ·rw [if_pos h];exact (sm z h).2
 ·rw [if_neg h];exact ma _ _
theorem wY (z:ab) (h:aL af z≠0):(am (z.take (aL af z))).isSome=true∧(z.take (aL af z)).length=aL af z:=by
 refine ⟨?_,by rw [List.length_take];exact Nat.min_eq_left (ma _ _)⟩
 rcases gE af z with h0|⟨r,hr,hp,e⟩
 ·exact absurd h0 h
 ·rw [e,←List.prefix_iff_eq_take.1 hp,wO hr];rfl
theorem lw (z:ab) (attr:Bool):1≤(cO z attr).length∧(cO z attr).length≤3*(ce z+1):=by
 unfold cO ce
 by_cases h:aX z 0=true
 ·rw [if_pos h,if_pos h]
  have h1:=Id (fK z 0)
  rw [Lib.size_eq] at h1
  have h2:=sm z h
  omega
 ·rw [if_neg h,if_neg h]
  by_cases h0:aL af z=0
  ·rw [if_pos h0];show 1≤1∧1≤_;omega
  ·rw [if_neg h0]
   have h1:=wY z h0
   by_cases hk:mZ z attr=true
   ·rw [if_pos hk,List.length_cons,h1.2];omega
   ·rw [if_neg hk]
    have h2:=Hv _ h1.1
    rw [h1.2] at h2
    omega
noncomputable def Ls (attr:Bool):Nat→ab→ab
 |0,_=>[]
 |_,[]=>[]
 |f+1,c::z=>if c=38 then cO z attr++Ls attr f (z.drop (ce z)) else c::Ls attr f z
noncomputable def dQ (attr:Bool) (l:ab):ab:=Ls attr l.length l
theorem wZ (attr:Bool):∀(f g:Nat) (l:ab),l.length≤f→l.length≤g→Ls attr f l=Ls attr g l
 |0,0,_,_,_=>rfl
 |0,g+1,[],_,_=>rfl
 |f+1,0,[],_,_=>rfl
 |f+1,g+1,[],_,_=>rfl
 |0,_,c::z,h,_=>absurd h (by simp)
 |_,0,c::z,_,h=>absurd h (by simp)
 |f+1,g+1,c::z,h1,h2=>by
  rw [List.length_cons] at h1 h2
  rw [Ls,Ls,wZ attr f g z (by omega) (by omega),wZ attr f g (z.drop (ce z)) (by rw [List.length_drop];omega) (by rw [List.length_drop];omega)]
theorem BA (attr:Bool):dQ attr []=[]:=rfl
theorem iO (attr:Bool) (c:UInt8) (z:ab) (h:c≠38):dQ attr (c::z)=c::dQ attr z:=by
 unfold dQ
 rw [List.length_cons,Ls,if_neg h]
theorem kz (attr:Bool) (z:ab):dQ attr (38::z)=cO z attr++dQ attr (z.drop (ce z)):=by
 unfold dQ
 rw [List.length_cons,Ls,if_pos rfl,wZ attr z.length (z.drop (ce z)).length _ (by rw [List.length_drop];omega) (Nat.le_refl _)]
theorem jG (attr:Bool) (z:ab):∀p:ab,38∉p→dQ attr (p++z)=p++dQ attr z
 |[],_=>rfl
 |c::p,h=>by
  rw [List.mem_cons,not_or] at h
  rw [List.cons_append,iO attr c _ (fun e=>h.1 e.symm),jG attr z p h.2];rfl
theorem Ih (attr:Bool) (p:ab) (h:38∉p):dQ attr p=p:=by
 have:=jG attr [] p h
 rwa [List.append_nil,BA,List.append_nil] at this
theorem lx (attr:Bool):∀(n:Nat) (l:ab),l.length≤n→(dQ attr l).length≤3*l.length
 |_,[],_=>by rw [BA];exact Nat.zero_le _
 |0,c::z,h=>absurd h (by simp)
 |n+1,c::z,h=>by
  rw [List.length_cons] at h
  by_cases hc:c=38
  ·subst hc
   have ih:=lx attr n (z.drop (ce z)) (by rw [List.length_drop];omega)
   have h1:=(lw z attr).2
   have h2:=oh z
   rw [List.length_drop] at ih
   rw [kz,List.length_append,List.length_cons]
   omega
  ·have ih:=lx attr n z (by omega)
   rw [iO attr c z hc,List.length_cons,List.length_cons]
   omega
theorem so:pr (am [97,109,112,59])=38∧nQ (am [97,109,112,59])=0∧(am [97,109,112,59]).isSome=true:=⟨by kernel_rfl,by kernel_rfl,by kernel_rfl⟩
theorem Ii:dC 38 0=[38]:=by decide
theorem Ij (z:ab) (attr:Bool):ce ([97,109,112,59]++z)=4∧cO ([97,109,112,59]++z) attr=[38]:=by
 have h1:aX ([97,109,112,59]++z) 0=false:=by
  unfold aX
  rw [decide_eq_false_iff_not]
  rintro ⟨-,h,-⟩
  exact absurd (show (97:UInt8)=35 from h) (by decide)
 have h2:aL af ([97,109,112,59]++z)=4:=vj [97,109,112,59] z so.2.2 (by decide)
 have h3:mZ ([97,109,112,59]++z) attr=false:=by
  unfold mZ
  rw [h2,show ([97,109,112,59]++z:ab).take 4=[97,109,112,59] from rfl,show hasSuffix [97,109,112,59] [59]=true by decide,Bool.not_true,Bool.and_false,Bool.false_and]
 unfold ce cO
 rw [h1,h2,h3,show ([97,109,112,59]++z:ab).take 4=[97,109,112,59] from rfl,so.1,so.2.1,Ii]
 exact ⟨rfl,rfl⟩
theorem Lt (q:ab) (z:ab) (h:(am q).isSome=true):aX (q++z) 0=false:=by
 obtain ⟨r,hr⟩:=Option.isSome_iff_exists.1 h
 obtain ⟨c,t,e,hw,-⟩:=y6 _ (fI hr)
 simp only at e
 subst e
 unfold aX
 rw [decide_eq_false_iff_not]
 rintro ⟨-,h35,-⟩
 have:c=35:=h35
 subst this
 exact absurd hw (by decide)
theorem E0 (q z:ab) (attr:Bool) (h:(am q).isSome=true) (hb:aL af (q++z)=q.length):ce (q++z)=q.length∧cO (q++z) attr=if attr&& !hasSuffix q [59]&&lu z then 38::q else dC (pr (am q)) (nQ (am q)):=by
 have hr:=Lt q z h
 have hne:q.length≠0:=by
  obtain ⟨r,hr⟩:=Option.isSome_iff_exists.1 h
  have:=(fH _ (fI hr)).ne
  exact fun e=>this (List.length_eq_zero_iff.1 e)
 unfold ce cO mZ
 rw [hr,hb,List.take_left,List.drop_left,if_neg hne]
 exact ⟨rfl,rfl⟩
theorem E5 (q z:ab) (attr:Bool) (h:(am q).isSome=true) (h59:hasSuffix q [59]=true):ce (q++z)=q.length∧cO (q++z) attr=dC (pr (am q)) (nQ (am q)):=by
 have h1:=E0 q z attr h (vj q z h h59)
 rw [h59,Bool.not_true,Bool.and_false,Bool.false_and] at h1
 exact h1
theorem Ik (D tail:ab) (attr:Bool) (hD:∀c∈D,co 10 c=true) (hne:D≠[]) (ht:tail=[]∨∃c t,tail=c::t∧co 10 c=false):ce (35::(D++tail))=(if tail.getD 0 0=59 then D.length+2 else D.length+1)∧cO (35::(D++tail)) attr=(fh (go 10 D)).data.toList:=by
 obtain ⟨h1,h2,h3⟩:=Lq D tail hD hne ht
 have h4:=jC (k:=0) h3
 have h5:=jD (k:=0) h3
 rw [show ((0:Nat):Int)=0 from rfl] at h4 h5
 rw [h1] at h4
 rw [h2] at h5
 unfold ce cO
 rw [if_pos h3,if_pos h3,←h4]
 refine ⟨?_,rfl⟩
 split at h5
 ·rename_i e;rw [if_pos e];omega
 ·rename_i e;rw [if_neg e];omega
end Go.Proofs.YtajpoodpbbbkfaaGreatDoor
namespace Go.Proofs.YtajpoodpbbbkfaaGreatDoor
open Go.RowKit Go.Lib
theorem E6 (l:ab) (j:Nat) (h:j≤l.length):aX l (j:Int)=aX (l.drop j) 0∧fK l j=fK (l.drop j) 0∧cH l j=j+cH (l.drop j) 0∧aL af (gO l (j:Int) 32)=aL af (l.drop j):=by
 have e:l.take j++l.drop j=l:=List.take_append_drop j l
 have hl:(l.take j).length=j:=by rw [List.length_take];omega
 have h1:=EZ (l.take j) (l.drop j)
 have h2:=EY (l.take j) (l.drop j)
 have h3:=ES (l.take j) (l.drop j)
 rw [e,hl] at h1 h2 h3
 exact ⟨h1.1,h1.2,h2,by rw [h3,By]⟩
theorem Lu (c:UInt8):(ct c=38)↔c=38:=by
 have h:=cU c
 unfold fY at h
 rw [←UInt8.toNat_inj,←UInt8.toNat_inj,show (38:UInt8).toNat=38 from rfl]
 split at h<;>omega
theorem rt (s:ByteArray) (k:Nat):bf s (k:Int) ⟨#[38]⟩=decide (s.data.toList.getD k 0=38):=by
 rw [iJ s k 38 (by decide),decide_eq_decide];exact Lu _
theorem Il (s : ByteArray) (k : Nat) (w : World) (hk : k ≤ s.size) :
    Calls Tryz.prog 191 #[.string s, .int .i64 (k : Int)] w fun e w' => e = .returned (.bool (lu (s.data.toList.drop k))) ∧ w' = w := by
  by_cases h : k < s.size
  · have HG := Lib.hid (show lu (s.data.toList.drop k) = (((s[k].toNat : Nat) : Int) == 61 || rJ ((s[k].toNat : Nat) : Int)) by
      rw [aj s k h, lu, vk]
      congr 1
      rw [Bool.eq_iff_iff, beq_iff_eq, beq_iff_eq, ← UInt8.toNat_inj, show (61 : UInt8).toNat = 61 from rfl]
      omega)
    rw [HG.out]
    have HW := fun w => Lib.hid (word ((s[k].toNat : Nat) : Int) w (by omega) (by have := s[k].toNat_lt; omega))
    obtain ⟨b, hb⟩ : ∃ b, rJ ((s[k].toNat : Nat) : Int) = b := ⟨_, rfl⟩
    rw [hb] at HW ⊢
    clear hb HG
    by_cases h1 : (((s[k].toNat : Nat) : Int) == 61) = true
    · go_enter Tryz.func191, Tryz.ntmps191
      go_wp2
      go_ret
      simp [h1]
    · rw [Bool.not_eq_true] at h1
      go_enter Tryz.func191, Tryz.ntmps191
      go_wp2_with (go_at_call 221; refine (HW _).out.mono ?_; rintro e w' ⟨rfl, rfl⟩)
      go_ret
      simp [h1]
  · have HG := Lib.hid (show lu (s.data.toList.drop k) = false by rw [List.drop_eq_nil_of_le (by rw [← Lib.size_eq]; omega)]; rfl)
    rw [HG.out]
    have h2 : decide (s.size ≤ k) = true := decide_eq_true (by omega)
    clear HG
    go_enter Tryz.func191, Tryz.ntmps191
    go_wp2
    go_ret
    trivial
noncomputable def OO (l:ab) (a:Int) (attr:Bool):ab:=if 0≤a∧l.getD a.toNat 0=38 then cO (l.drop (a.toNat+1)) attr else []
noncomputable def OP (l:ab) (a:Int):Int:=if 0≤a∧l.getD a.toNat 0=38 then a+1+(ce (l.drop (a.toNat+1)):Int) else a
theorem xa (l:ab) (k:Nat) (attr:Bool) (h:l.getD k 0=38):OO l (k:Int) attr=cO (l.drop (k+1)) attr∧OP l (k:Int)=(k:Int)+1+(ce (l.drop (k+1)):Int):=by
 have e:((k:Nat):Int).toNat=k:=by omega
 unfold OO OP
 rw [e,if_pos ⟨by omega,h⟩,if_pos ⟨by omega,h⟩]
 exact ⟨rfl,rfl⟩
theorem Nj (l:ab) (a:Int) (attr:Bool) (h:¬(0≤a∧l.getD a.toNat 0=38)):OO l a attr=[]∧OP l a=a:=by
 unfold OO OP
 rw [if_neg h,if_neg h]
 exact ⟨rfl,rfl⟩
theorem N5 (s:ByteArray) (k:Nat) (attr:Bool) (w:World) (hs:s.size≤1099511627776) (h38:s.data.toList.getD k 0=38) (hT:iK w) (hr:aX (s.data.toList.drop (k+1)) 0=true):Calls Tryz.prog 158 #[.string s,.int .i64 (k:Int),.bool attr] w fun e w'=>e= .returned (.tuple #[.string ⟨(cO (s.data.toList.drop (k+1)) attr).toArray⟩,.int .i64 ((k:Int)+1+(ce (s.data.toList.drop (k+1)):Int))])∧Below w.heap.size w w':=by
 have hk:k<s.size:=cg s k (by rw [h38];decide)
 have hl:k+1≤s.data.toList.length:=by rw [←Lib.size_eq];omega
 obtain ⟨e1,e2,e3,-⟩:=E6 s.data.toList (k+1) hl
 rw [hr] at e1
 have HB:=fun w=>Lib.hid (cB s (k:Int) ⟨#[38]⟩ w hs (by decide) (by omega) (by omega))
 rw [rt,h38,show decide ((38:UInt8)=38)=true from rfl] at HB
 have HR:=fun w h=>Lib.hid (read s ((k:Int)+1) w hs (by omega) (by omega) h)
 have c:((k+1:Nat):Int)=(k:Int)+1:=by omega
 have f1:=jC (k:=k+1) e1
 have f2:=jD (k:=k+1) e1
 rw [c] at f1 f2 e1
 rw [f1,f2,e1,e2,e3] at HR
 obtain ⟨A,hA⟩:∃A,fh (fK (s.data.toList.drop (k+1)) 0)=A:=⟨_,rfl⟩
 obtain ⟨E,hE⟩:∃E:Int,((k+1+cH (s.data.toList.drop (k+1)) 0:Nat):Int)=E:=⟨_,rfl⟩
 have HA:Hid ((⟨(cO (s.data.toList.drop (k+1)) attr).toArray⟩:ByteArray)=A):=Lib.hid (by unfold cO;rw [if_pos hr,←hA])
 have HN:Hid ((k:Int)+1+(ce (s.data.toList.drop (k+1)):Int)=E):=Lib.hid (by unfold ce;rw [if_pos hr,←hE];omega)
 rw [hA,hE] at HR
 rw [HA.out,HN.out]
 clear hA hE HA HN f1 f2 e1 e2 e3 c hr h38
 have HT:=Lib.hid hT
 clear hT
 go_enter Tryz.func158,Tryz.ntmps158
 go_wp2_with (fail)
 refine (HB _).out.mono ?_
 rintro e w1 ⟨rfl,n1,rfl⟩
 go_wp2_with (fail)
 refine (HR _ (HT.out.drawn _)).out.mono ?_
 rintro e w1 ⟨rfl,n2,rfl⟩
 go_wp2
 go_ret2
 exact ⟨rfl,ai _ _ _⟩
theorem Lw (s:ByteArray) (k:Nat) (attr:Bool) (w:World) (hs:s.size≤1099511627776) (h38:s.data.toList.getD k 0=38) (hT:iK w) (hr:aX (s.data.toList.drop (k+1)) 0=false) (hb:aL af (s.data.toList.drop (k+1))=0):Calls Tryz.prog 158 #[.string s,.int .i64 (k:Int),.bool attr] w fun e w'=>e= .returned (.tuple #[.string ⟨(cO (s.data.toList.drop (k+1)) attr).toArray⟩,.int .i64 ((k:Int)+1+(ce (s.data.toList.drop (k+1)):Int))])∧Below w.heap.size w w':=by
 have hk:k<s.size:=cg s k (by rw [h38];decide)
 have hl:k+1≤s.data.toList.length:=by rw [←Lib.size_eq];omega
 obtain ⟨e1,-,-,e4⟩:=E6 s.data.toList (k+1) hl
 rw [hr] at e1
 rw [hb] at e4
 have HB:=fun w=>Lib.hid (cB s (k:Int) ⟨#[38]⟩ w hs (by decide) (by omega) (by omega))
 rw [rt,h38,show decide ((38:UInt8)=38)=true from rfl] at HB
 have HR:=fun w h=>Lib.hid (read s ((k:Int)+1) w hs (by omega) (by omega) h)
 have HL:=fun w=>Lib.hid (mW s ((k:Int)+1) w (by omega))
 have c:((k+1:Nat):Int)=(k:Int)+1:=by omega
 rw [c] at e1 e4
 rw [kw e1,kx e1,e1] at HR
 rw [e4] at HL
 have HA:Hid ((⟨(cO (s.data.toList.drop (k+1)) attr).toArray⟩:ByteArray)=⟨#[38]⟩):=Lib.hid (by unfold cO;rw [hr,hb];rfl)
 have HN:Hid ((k:Int)+1+(ce (s.data.toList.drop (k+1)):Int)=(k:Int)+1):=Lib.hid (by unfold ce;rw [hr,hb];simp)
 rw [HA.out,HN.out]
 have z:(s.extract (k+1) (k+1)).size=0:=by rw [ByteArray.size_extract];omega
 clear HA HN e1 e4 c hr h38 hb
 have HT:=Lib.hid hT
 clear hT
 go_enter Tryz.func158,Tryz.ntmps158
 go_wp2_with (fail)
 refine (HB _).out.mono ?_
 rintro e w1 ⟨rfl,n1,rfl⟩
 go_wp2_with (fail)
 refine (HR _ (HT.out.drawn _)).out.mono ?_
 rintro e w1 ⟨rfl,n2,rfl⟩
 go_wp2_with (fail)
 refine (HL _).out.mono ?_
 rintro e w1 ⟨rfl,n3,rfl⟩
 go_wp2
 go_ret2
 exact ⟨rfl,ai _ _ _⟩
theorem Lx (s:ByteArray) (k:Nat) (attr:Bool) (w:World) (hs:s.size≤1099511627776) (h38:s.data.toList.getD k 0=38) (hT:iK w) (hE:ob w) (hr:aX (s.data.toList.drop (k+1)) 0=false) (hb:aL af (s.data.toList.drop (k+1))≠0):Calls Tryz.prog 158 #[.string s,.int .i64 (k:Int),.bool attr] w fun e w'=>e= .returned (.tuple #[.string ⟨(cO (s.data.toList.drop (k+1)) attr).toArray⟩,.int .i64 ((k:Int)+1+(ce (s.data.toList.drop (k+1)):Int))])∧Below w.heap.size w w':=by
 have hk:k<s.size:=cg s k (by rw [h38];decide)
 have hl:k+1≤s.data.toList.length:=by rw [←Lib.size_eq];omega
 have hat:s[k]=38:=by rw [←df s k hk];exact h38
 obtain ⟨e1,-,-,e4⟩:=E6 s.data.toList (k+1) hl
 rw [hr] at e1
 have HB:=fun w=>Lib.hid (cB s (k:Int) ⟨#[38]⟩ w hs (by decide) (by omega) (by omega))
 rw [rt,h38,show decide ((38:UInt8)=38)=true from rfl] at HB
 have HR:=fun w h=>Lib.hid (read s ((k:Int)+1) w hs (by omega) (by omega) h)
 have HL:=fun w=>Lib.hid (mW s ((k:Int)+1) w (by omega))
 have c:((k+1:Nat):Int)=(k:Int)+1:=by omega
 rw [c] at e1 e4
 rw [kw e1,kx e1,e1] at HR
 rw [e4] at HL
 have hle:=ma af (s.data.toList.drop (k+1))
 rw [List.length_drop,←Lib.size_eq] at hle
 obtain ⟨his,hlen⟩:=wY _ hb
 have HA:Hid ((⟨(cO (s.data.toList.drop (k+1)) attr).toArray⟩:ByteArray)=if mZ (s.data.toList.drop (k+1)) attr then ⟨(38::(s.data.toList.drop (k+1)).take (aL af (s.data.toList.drop (k+1)))).toArray⟩ else ⟨(dC (pr (am ((s.data.toList.drop (k+1)).take (aL af (s.data.toList.drop (k+1)))))) (nQ (am ((s.data.toList.drop (k+1)).take (aL af (s.data.toList.drop (k+1))))))).toArray⟩):=Lib.hid (by
  unfold cO;rw [hr,if_neg Bool.false_ne_true,if_neg hb];split<;>rfl)
 have HN:Hid ((k:Int)+1+(ce (s.data.toList.drop (k+1)):Int)=(k:Int)+1+(aL af (s.data.toList.drop (k+1)):Int)):=Lib.hid (by unfold ce;rw [hr];rfl)
 rw [HN.out]
 obtain ⟨R,hR⟩:∃R:ByteArray,⟨(cO (s.data.toList.drop (k+1)) attr).toArray⟩=R:=⟨_,rfl⟩
 rw [hR] at HA⊢
 unfold mZ at HA
 obtain ⟨b,hB⟩:∃b,aL af (s.data.toList.drop (k+1))=b:=⟨_,rfl⟩
 rw [hB] at HL HA his hlen hle hb⊢
 have hlt:k+1+b≤s.size:=by omega
 have hpos:0<b:=Nat.pos_of_ne_zero hb
 have hq:(s.extract (k+1) (k+1+b)).data.toList=(s.data.toList.drop (k+1)).take b:=by
  rw [extract_data];congr 1;omega
 have hqs:(s.extract (k+1) (k+1+b)).size=b:=by rw [ByteArray.size_extract];omega
 have hq2:s.extract k (k+1+b)=⟨(38::(s.data.toList.drop (k+1)).take b).toArray⟩:=bl (by
  rw [extract_data,List.toList_toArray,aj s k hk,hat,show k+1+b-k=b+1 by omega];rfl)
 rw [←hq2,←hq,List.drop_drop] at HA
 rw [←hq] at his
 have HS:=fun w=>Lib.hid (EM (s.extract (k+1) (k+1+b)) w (by omega))
 have HV:=fun w h=>Lib.hid (EL (s.extract (k+1) (k+1+b)) w h)
 have HG:=fun w=>Lib.hid (Il s (k+1+b) w hlt)
 have HX:=fun w=>Lib.hid (Hp (pr (am (s.extract (k+1) (k+1+b)).data.toList)) (nQ (am (s.extract (k+1) (k+1+b)).data.toList)) w (by have:=Hl (s.extract (k+1) (k+1+b)).data.toList;omega) (by have:=Hm (s.extract (k+1) (k+1+b)).data.toList;omega))
 have HC:=fun w=>Lib.hid (u0 (s.extract k (k+1+b)) w (by rw [ByteArray.size_extract];omega))
 rw [his,Bool.true_and] at HS
 rw [his] at HV
 have c2:((k+1+b:Nat):Int)=(k:Int)+1+(b:Int):=by omega
 rw [c2] at HG
 obtain ⟨T,hT'⟩:∃T:ByteArray,⟨(dC (pr (am (s.extract (k+1) (k+1+b)).data.toList)) (nQ (am (s.extract (k+1) (k+1+b)).data.toList))).toArray⟩=T:=⟨_,rfl⟩
 obtain ⟨X,hX⟩:∃X,fl (pr (am (s.extract (k+1) (k+1+b)).data.toList))=X:=⟨_,rfl⟩
 obtain ⟨Y,hY⟩:∃Y,fl (nQ (am (s.extract (k+1) (k+1+b)).data.toList))=Y:=⟨_,rfl⟩
 rw [hX,hY] at HV HX
 rw [hT'] at HX HA
 obtain ⟨h,hh⟩:∃h,hasSuffix (s.extract (k+1) (k+1+b)).data.toList [59]=h:=⟨_,rfl⟩
 obtain ⟨g,hg⟩:∃g,lu (s.data.toList.drop (k+1+b))=g:=⟨_,rfl⟩
 rw [hh] at HS HA
 rw [hg] at HG HA
 have e0:(s.extract (k+1) (k+1+b)).toList.isEmpty=false:=by
  rw [ByteArray.toList_eq,List.isEmpty_eq_false_iff,←List.length_pos_iff,←Lib.size_eq,hqs];exact hpos
 have HT:=Lib.hid hT
 have HE:=Lib.hid hE
 clear hT hE hT' hX hY hh hg c c2 his hlen hle hb hB hR HN e1 e4 hq hq2 hr hat h38
 cases attr
 ·have HR0:Hid (R=T):=Lib.hid (by rw [HA.out];rfl)
  clear HA
  go_enter Tryz.func158,Tryz.ntmps158
  go_wp2_with (fail)
  refine (HB _).out.mono ?_
  rintro e w1 ⟨rfl,n1,rfl⟩
  go_wp2_with (fail)
  refine (HR _ (HT.out.drawn _)).out.mono ?_
  rintro e w1 ⟨rfl,n2,rfl⟩
  go_wp2_with (fail)
  refine (HL _).out.mono ?_
  rintro e w1 ⟨rfl,n3,rfl⟩
  go_wp2_with (fail)
  have b1:=ai w.heap.size w (n1+n2+n3)
  refine (HV _ (HE.out.below b1)).out.mono ?_
  rintro e w2 ⟨rfl,b2⟩
  go_wp2_with (fail)
  refine (HX _).out.mono ?_
  rintro e w3 ⟨rfl,rfl⟩
  go_wp2
  go_ret2
  rw [HR0.out]
  exact ⟨rfl,b1.trans (b2.mono b1.size)⟩
 ·cases h
  ·cases g
   ·have HR0:Hid (R=T):=Lib.hid (by rw [HA.out];rfl)
    clear HA
    go_enter Tryz.func158,Tryz.ntmps158
    go_wp2_with (fail)
    refine (HB _).out.mono ?_
    rintro e w1 ⟨rfl,n1,rfl⟩
    go_wp2_with (fail)
    refine (HR _ (HT.out.drawn _)).out.mono ?_
    rintro e w1 ⟨rfl,n2,rfl⟩
    go_wp2_with (fail)
    refine (HL _).out.mono ?_
    rintro e w1 ⟨rfl,n3,rfl⟩
    have b1:=ai w.heap.size w (n1+n2+n3)
    go_wp2_with (first|(go_at_call 190;refine (HS _).out.mono ?_;rintro e w2 ⟨rfl,b2⟩)|(go_at_call 191;refine (HG _).out.mono ?_;rintro e w' ⟨rfl,rfl⟩))
    have b3:=b1.trans (b2.mono b1.size)
    refine (HV _ (HE.out.below b3)).out.mono ?_
    rintro e w4 ⟨rfl,b4⟩
    go_wp2_with (fail)
    refine (HX _).out.mono ?_
    rintro e w5 ⟨rfl,rfl⟩
    go_wp2
    go_ret2
    rw [HR0.out]
    exact ⟨rfl,b3.trans (b4.mono b3.size)⟩
   ·have HR0:Hid (R=s.extract k (k+1+b)):=Lib.hid (by rw [HA.out];rfl)
    clear HA
    go_enter Tryz.func158,Tryz.ntmps158
    go_wp2_with (fail)
    refine (HB _).out.mono ?_
    rintro e w1 ⟨rfl,n1,rfl⟩
    go_wp2_with (fail)
    refine (HR _ (HT.out.drawn _)).out.mono ?_
    rintro e w1 ⟨rfl,n2,rfl⟩
    go_wp2_with (fail)
    refine (HL _).out.mono ?_
    rintro e w1 ⟨rfl,n3,rfl⟩
    have b1:=ai w.heap.size w (n1+n2+n3)
    go_wp2_with (first|(go_at_call 190;refine (HS _).out.mono ?_;rintro e w2 ⟨rfl,b2⟩)|(go_at_call 191;refine (HG _).out.mono ?_;rintro e w' ⟨rfl,rfl⟩))
    have b3:=b1.trans (b2.mono b1.size)
    refine (HC _).out.mono ?_
    rintro e w4 ⟨rfl,b4⟩
    go_wp2
    go_ret2
    rw [HR0.out]
    exact ⟨rfl,b3.trans (b4.mono b3.size)⟩
  ·have HR0:Hid (R=T):=Lib.hid (by rw [HA.out];cases g<;>rfl)
   clear HA
   go_enter Tryz.func158,Tryz.ntmps158
   go_wp2_with (fail)
   refine (HB _).out.mono ?_
   rintro e w1 ⟨rfl,n1,rfl⟩
   go_wp2_with (fail)
   refine (HR _ (HT.out.drawn _)).out.mono ?_
   rintro e w1 ⟨rfl,n2,rfl⟩
   go_wp2_with (fail)
   refine (HL _).out.mono ?_
   rintro e w1 ⟨rfl,n3,rfl⟩
   have b1:=ai w.heap.size w (n1+n2+n3)
   go_wp2_with (go_at_call 190;refine (HS _).out.mono ?_;rintro e w2 ⟨rfl,b2⟩)
   have b3:=b1.trans (b2.mono b1.size)
   refine (HV _ (HE.out.below b3)).out.mono ?_
   rintro e w4 ⟨rfl,b4⟩
   go_wp2_with (fail)
   refine (HX _).out.mono ?_
   rintro e w5 ⟨rfl,rfl⟩
   go_wp2
   go_ret2
   rw [HR0.out]
   exact ⟨rfl,b3.trans (b4.mono b3.size)⟩
theorem N7 (s : ByteArray) (a : Int) (attr : Bool) (w : World) (hs : s.size ≤ 1099511627776) (ha : -9223372036854775808 ≤ a ∧ a ≤ 9223372036854775807) (hT : iK w) (hE : ob w) :
    Calls Tryz.prog 158 #[.string s, .int .i64 a, .bool attr] w fun e w' => e = .returned (.tuple #[.string ⟨(OO s.data.toList a attr).toArray⟩, .int .i64 (OP s.data.toList a)]) ∧ Below w.heap.size w w' := by
  by_cases h : 0 ≤ a ∧ s.data.toList.getD a.toNat 0 = 38
  · obtain ⟨h0, h38⟩ := h
    obtain ⟨k, rfl⟩ : ∃ k : Nat, a = k := ⟨a.toNat, by omega⟩
    rw [show ((k : Nat) : Int).toNat = k by omega] at h38
    obtain ⟨e1, e2⟩ := xa s.data.toList k attr h38
    rw [e1, e2]
    by_cases hr : aX (s.data.toList.drop (k + 1)) 0 = true
    · exact N5 s k attr w hs h38 hT hr
    · rw [Bool.not_eq_true] at hr
      by_cases hb : aL af (s.data.toList.drop (k + 1)) = 0
      · exact Lw s k attr w hs h38 hT hr hb
      · exact Lx s k attr w hs h38 hT hE hr hb
  · obtain ⟨e1, e2⟩ := Nj s.data.toList a attr h
    rw [e1, e2]
    have HB := fun w => Lib.hid (show Calls Tryz.prog 57 #[.string s, .int .i64 a, .string ⟨#[38]⟩] w fun e w' => e = .returned (.bool false) ∧ ∃ n, w' = w.drewN n from by
      have := cB s a ⟨#[38]⟩ w hs (by decide) ha.1 ha.2
      rwa [show bf s a ⟨#[38]⟩ = false from by
        by_cases h0 : a < 0
        · exact yY s a _ h0
        · obtain ⟨k, rfl⟩ : ∃ k : Nat, a = k := ⟨a.toNat, by omega⟩
          rw [rt]
          exact decide_eq_false fun h38 => h ⟨by omega, by rw [show ((k : Nat) : Int).toNat = k by omega]; exact h38⟩] at this)
    clear h e1 e2
    go_enter Tryz.func158, Tryz.ntmps158
    go_wp2_with (fail)
    refine (HB _).out.mono ?_
    rintro e w1 ⟨rfl, n1, rfl⟩
    go_wp2
    go_ret2
    exact ⟨rfl, ai _ _ _⟩
end Go.Proofs.YtajpoodpbbbkfaaGreatDoor
namespace Go.Proofs.YtajpoodpbbbkfaaGreatDoor
open Go.RowKit Go.Lib
theorem oj (c:UInt8) (n:Nat) (hn:n<256) (h:c=UInt8.ofNat n):((((c.toNat:Nat):Int) != (n:Int))=false):=by
 subst h
 rw [bne_eq_false_iff_eq,UInt8.toNat_ofNat'];omega
theorem N8 (s:ByteArray) (k:Nat) (attr:Bool) (w:World) (hs:s.size≤1099511627776) (h38:s.data.toList.getD k 0=38) (hr:aX (s.data.toList.drop (k+1)) 0=true):Calls Tryz.prog 199 #[.string s,.int .i64 (k:Int),.bool attr] w fun e w'=>e= .returned (.tuple #[.string ⟨(cO (s.data.toList.drop (k+1)) attr).toArray⟩,.int .i64 ((k:Int)+1+(ce (s.data.toList.drop (k+1)):Int))])∧Below w.heap.size w w':=by
 have hk:k<s.size:=cg s k (by rw [h38];decide)
 have hl:k+1≤s.data.toList.length:=by rw [←Lib.size_eq];omega
 have b38:(((s[k].toNat:Nat):Int) != 38)=false:=oj _ 38 (by decide) (by rw [←df s k hk];exact h38)
 obtain ⟨e1,e2,e3,-⟩:=E6 s.data.toList (k+1) hl
 rw [hr] at e1
 have HR:=fun w=>Lib.hid (wW s ((k:Int)+1) w hs (by omega) (by omega))
 have c:((k+1:Nat):Int)=(k:Int)+1:=by omega
 have f1:=jC (k:=k+1) e1
 have f2:=jD (k:=k+1) e1
 rw [c] at f1 f2 e1
 rw [f1,f2,e1,e2,e3] at HR
 obtain ⟨A,hA⟩:∃A,fh (fK (s.data.toList.drop (k+1)) 0)=A:=⟨_,rfl⟩
 obtain ⟨E,hE⟩:∃E:Int,((k+1+cH (s.data.toList.drop (k+1)) 0:Nat):Int)=E:=⟨_,rfl⟩
 have HA:Hid ((⟨(cO (s.data.toList.drop (k+1)) attr).toArray⟩:ByteArray)=A):=Lib.hid (by unfold cO;rw [if_pos hr,←hA])
 have HN:Hid ((k:Int)+1+(ce (s.data.toList.drop (k+1)):Int)=E):=Lib.hid (by unfold ce;rw [if_pos hr,←hE];omega)
 rw [hA,hE] at HR
 rw [HA.out,HN.out]
 clear hA hE HA HN f1 f2 e1 e2 e3 c hr h38
 go_enter Tryz.func199,Tryz.ntmps199
 go_wp2_with (fail)
 refine (HR _).out.mono ?_
 rintro e w1 ⟨rfl,b1⟩
 go_wp2
 go_ret2
 exact ⟨rfl,b1⟩
theorem Ly (s:ByteArray) (k:Nat) (attr:Bool) (w:World) (hs:s.size≤1099511627776) (h38:s.data.toList.getD k 0=38) (hr:aX (s.data.toList.drop (k+1)) 0=false) (hb:aL af (s.data.toList.drop (k+1))=0):Calls Tryz.prog 199 #[.string s,.int .i64 (k:Int),.bool attr] w fun e w'=>e= .returned (.tuple #[.string ⟨(cO (s.data.toList.drop (k+1)) attr).toArray⟩,.int .i64 ((k:Int)+1+(ce (s.data.toList.drop (k+1)):Int))])∧Below w.heap.size w w':=by
 have hk:k<s.size:=cg s k (by rw [h38];decide)
 have hl:k+1≤s.data.toList.length:=by rw [←Lib.size_eq];omega
 have b38:(((s[k].toNat:Nat):Int) != 38)=false:=oj _ 38 (by decide) (by rw [←df s k hk];exact h38)
 obtain ⟨e1,-,-,e4⟩:=E6 s.data.toList (k+1) hl
 rw [hr] at e1
 rw [hb] at e4
 have HR:=fun w=>Lib.hid (wW s ((k:Int)+1) w hs (by omega) (by omega))
 have HL:=fun w=>Lib.hid (jz s ((k:Int)+1) w hs (by omega))
 have c:((k+1:Nat):Int)=(k:Int)+1:=by omega
 rw [c] at e1 e4
 rw [kw e1,kx e1,e1] at HR
 rw [e4] at HL
 have HA:Hid ((⟨(cO (s.data.toList.drop (k+1)) attr).toArray⟩:ByteArray)=⟨#[38]⟩):=Lib.hid (by unfold cO;rw [hr,hb];rfl)
 have HN:Hid ((k:Int)+1+(ce (s.data.toList.drop (k+1)):Int)=(k:Int)+1):=Lib.hid (by unfold ce;rw [hr,hb];simp)
 rw [HA.out,HN.out]
 clear HA HN e1 e4 c hr h38 hb
 go_enter Tryz.func199,Tryz.ntmps199
 go_wp2_with (fail)
 refine (HR _).out.mono ?_
 rintro e w1 ⟨rfl,b1⟩
 go_wp2_with (fail)
 refine (HL _).out.mono ?_
 rintro e w2 ⟨rfl,n2,rfl⟩
 go_wp2
 go_ret2
 exact ⟨rfl,b1.trans (ai _ _ _)⟩
theorem Lz (s:ByteArray) (k:Nat) (attr:Bool) (w:World) (hs:s.size≤1099511627776) (h38:s.data.toList.getD k 0=38) (hr:aX (s.data.toList.drop (k+1)) 0=false) (hb:aL af (s.data.toList.drop (k+1))≠0):Calls Tryz.prog 199 #[.string s,.int .i64 (k:Int),.bool attr] w fun e w'=>e= .returned (.tuple #[.string ⟨(cO (s.data.toList.drop (k+1)) attr).toArray⟩,.int .i64 ((k:Int)+1+(ce (s.data.toList.drop (k+1)):Int))])∧Below w.heap.size w w':=by
 have hk:k<s.size:=cg s k (by rw [h38];decide)
 have hl:k+1≤s.data.toList.length:=by rw [←Lib.size_eq];omega
 have hat:s[k]=38:=by rw [←df s k hk];exact h38
 have b38:(((s[k].toNat:Nat):Int) != 38)=false:=oj _ 38 (by decide) hat
 obtain ⟨e1,-,-,e4⟩:=E6 s.data.toList (k+1) hl
 rw [hr] at e1
 have HR:=fun w=>Lib.hid (wW s ((k:Int)+1) w hs (by omega) (by omega))
 have HL:=fun w=>Lib.hid (jz s ((k:Int)+1) w hs (by omega))
 have c:((k+1:Nat):Int)=(k:Int)+1:=by omega
 rw [c] at e1 e4
 rw [kw e1,kx e1,e1] at HR
 rw [e4] at HL
 have hle:=ma af (s.data.toList.drop (k+1))
 rw [List.length_drop,←Lib.size_eq] at hle
 have HA:Hid ((⟨(cO (s.data.toList.drop (k+1)) attr).toArray⟩:ByteArray)=if mZ (s.data.toList.drop (k+1)) attr then ⟨(38::(s.data.toList.drop (k+1)).take (aL af (s.data.toList.drop (k+1)))).toArray⟩ else ⟨(dC (pr (am ((s.data.toList.drop (k+1)).take (aL af (s.data.toList.drop (k+1)))))) (nQ (am ((s.data.toList.drop (k+1)).take (aL af (s.data.toList.drop (k+1))))))).toArray⟩):=Lib.hid (by
  unfold cO;rw [hr,if_neg Bool.false_ne_true,if_neg hb];split<;>rfl)
 have HN:Hid ((k:Int)+1+(ce (s.data.toList.drop (k+1)):Int)=(k:Int)+1+(aL af (s.data.toList.drop (k+1)):Int)):=Lib.hid (by unfold ce;rw [hr];rfl)
 rw [HN.out]
 obtain ⟨R,hR⟩:∃R:ByteArray,⟨(cO (s.data.toList.drop (k+1)) attr).toArray⟩=R:=⟨_,rfl⟩
 rw [hR] at HA⊢
 unfold mZ at HA
 obtain ⟨b,hB⟩:∃b,aL af (s.data.toList.drop (k+1))=b:=⟨_,rfl⟩
 rw [hB] at HL HA hle hb⊢
 have hlt:k+1+b≤s.size:=by omega
 have hpos:0<b:=Nat.pos_of_ne_zero hb
 have hq:(s.extract (k+1) (k+1+b)).data.toList=(s.data.toList.drop (k+1)).take b:=by
  rw [extract_data];congr 1;omega
 have hqs:(s.extract (k+1) (k+1+b)).size=b:=by rw [ByteArray.size_extract];omega
 have hq2:s.extract k (k+1+b)=⟨(38::(s.data.toList.drop (k+1)).take b).toArray⟩:=bl (by
  rw [extract_data,List.toList_toArray,aj s k hk,hat,show k+1+b-k=b+1 by omega];rfl)
 rw [←hq2,←hq,List.drop_drop] at HA
 have HV:=fun w=>Lib.hid (uc (s.extract (k+1) (k+1+b)) w (by omega))
 obtain ⟨T,hT'⟩:∃T:ByteArray,⟨(dC (pr (am (s.extract (k+1) (k+1+b)).data.toList)) (nQ (am (s.extract (k+1) (k+1+b)).data.toList))).toArray⟩=T:=⟨_,rfl⟩
 rw [hT'] at HV HA
 obtain ⟨m,hm⟩:∃m,m=k+b:=⟨_,rfl⟩
 have hms:m<s.size:=by omega
 have hlast:(((s[m].toNat:Nat):Int) != 59)= !hasSuffix (s.extract (k+1) (k+1+b)).data.toList [59]:=by
  obtain ⟨j,rfl⟩:∃j,b=j+1:=⟨b-1,by omega⟩
  have:=Lj (s.extract (k+1) (k+1+(j+1))) j (by omega) hqs
  rw [←this]
  congr 3
  have e:(s.extract (k+1) (k+1+(j+1)))[j]'(by omega)=s[k+1+j]:=by simp [ByteArray.getElem_extract]
  rw [e]
  congr 2
  omega
 have hmi:(k:Int)+1+(b:Int)-1=(m:Int):=by omega
 obtain ⟨h,hh⟩:∃h,hasSuffix (s.extract (k+1) (k+1+b)).data.toList [59]=h:=⟨_,rfl⟩
 rw [hh] at hlast HA
 have HG:Hid (∀h:k+1+b<s.size,lu (s.data.toList.drop (k+1+b))=(((s[k+1+b].toNat:Nat):Int)==61||(bF ((s[k+1+b].toNat:Nat):Int)||k8 ((s[k+1+b].toNat:Nat):Int)))):=Lib.hid (fun h=>by
  rw [aj s _ h,lu,←vk]
  congr 1
  rw [Bool.eq_iff_iff,beq_iff_eq,beq_iff_eq,←UInt8.toNat_inj,show (61:UInt8).toNat=61 from rfl]
  omega)
 have HG2:Hid (¬k+1+b<s.size→lu (s.data.toList.drop (k+1+b))=false):=Lib.hid (fun h=>by rw [List.drop_eq_nil_of_le (by rw [←Lib.size_eq];omega)];rfl)
 obtain ⟨g,hg⟩:∃g,lu (s.data.toList.drop (k+1+b))=g:=⟨_,rfl⟩
 rw [hg] at HG HG2 HA
 clear hT' hh hg c hle hb hB hR HN e1 e4 hq hq2 hr hat h38 hqs hm
 cases attr
 focus
  have HR0:Hid (R=T):=Lib.hid (by rw [HA.out];rfl)
  clear HA HG HG2
  clear hlast hmi
 rotate_left
 focus
  cases h
 focus
  by_cases hend:k+1+b<s.size
 ·have HLt:=fun w=>Lib.hid (pu ((s[k+1+b].toNat:Nat):Int) w (by omega) (by have:=s[k+1+b].toNat_lt;omega))
  have HD:=fun w=>Lib.hid (GU ((s[k+1+b].toNat:Nat):Int) w (by omega) (by have:=s[k+1+b].toNat_lt;omega))
  have HG3:=Lib.hid (HG.out hend)
  obtain ⟨l,hl'⟩:∃l,bF ((s[k+1+b].toNat:Nat):Int)=l:=⟨_,rfl⟩
  obtain ⟨d,hd'⟩:∃d,k8 ((s[k+1+b].toNat:Nat):Int)=d:=⟨_,rfl⟩
  obtain ⟨q,hq'⟩:∃q,(((s[k+1+b].toNat:Nat):Int)==61)=q:=⟨_,rfl⟩
  rw [hl'] at HLt HG3
  rw [hd'] at HD HG3
  rw [hq'] at HG3
  clear hl' hd' HG HG2
  have hlast2:(((s[m].toNat:Nat):Int) != 59)=true:=hlast
  clear hlast
  cases q
  focus
   cases l
  focus
   cases d
  ·have HR0:Hid (R=T):=Lib.hid (by rw [HA.out,HG3.out];rfl)
   clear HA HG3
   go_enter Tryz.func199,Tryz.ntmps199
   go_wp2_with (fail)
   refine (HR _).out.mono ?_
   rintro e w1 ⟨rfl,b1⟩
   go_wp2_with (fail)
   refine (HL _).out.mono ?_
   rintro e w2 ⟨rfl,n2,rfl⟩
   have b3:=b1.trans (ai w.heap.size w1 n2)
   go_wp2_with (first|(go_at_call 167;refine (HLt _).out.mono ?_;rintro e w' ⟨rfl,rfl⟩)|(go_at_call 227;refine (HD _).out.mono ?_;rintro e w' ⟨rfl,rfl⟩))
   refine (HV _).out.mono ?_
   rintro e w4 ⟨rfl,b4⟩
   go_wp2
   go_ret2
   rw [HR0.out]
   exact ⟨rfl,b3.trans (b4.mono b3.size)⟩
  rotate_left
  rotate_left
  rotate_left
  all_goals
   have HR0:Hid (R=s.extract k (k+1+b)):=Lib.hid (by rw [HA.out,HG3.out];rfl)
   clear HA HG3
   go_enter Tryz.func199,Tryz.ntmps199
   go_wp2_with (fail)
   refine (HR _).out.mono ?_
   rintro e w1 ⟨rfl,b1⟩
   go_wp2_with (fail)
   refine (HL _).out.mono ?_
   rintro e w2 ⟨rfl,n2,rfl⟩
   have b3:=b1.trans (ai w.heap.size w1 n2)
   go_wp2_with (first|(go_at_call 167;refine (HLt _).out.mono ?_;rintro e w' ⟨rfl,rfl⟩)|(go_at_call 227;refine (HD _).out.mono ?_;rintro e w' ⟨rfl,rfl⟩))
   go_ret2
   rw [HR0.out]
   exact ⟨rfl,b3⟩
 focus
  have HR0:Hid (R=T):=Lib.hid (by rw [HA.out,HG2.out hend];rfl)
  clear HA HG HG2
  have hlast2:(((s[m].toNat:Nat):Int) != 59)=true:=hlast
  clear hlast
 rotate_left
 focus
  have HR0:Hid (R=T):=Lib.hid (by rw [HA.out];cases g<;>rfl)
  clear HA HG HG2
  have hlast2:(((s[m].toNat:Nat):Int) != 59)=false:=hlast
  clear hlast
 rotate_left
 all_goals
  go_enter Tryz.func199,Tryz.ntmps199
  go_wp2_with (fail)
  refine (HR _).out.mono ?_
  rintro e w1 ⟨rfl,b1⟩
  go_wp2_with (fail)
  refine (HL _).out.mono ?_
  rintro e w2 ⟨rfl,n2,rfl⟩
  have b3:=b1.trans (ai w.heap.size w1 n2)
  go_wp2_with (fail)
  refine (HV _).out.mono ?_
  rintro e w4 ⟨rfl,b4⟩
  go_wp2
  go_ret2
  rw [HR0.out]
  exact ⟨rfl,b3.trans (b4.mono b3.size)⟩
theorem N9 (s:ByteArray) (a:Int) (attr:Bool) (w:World) (hs:s.size≤1099511627776) (_ha: -9223372036854775808≤a∧a≤9223372036854775807):Calls Tryz.prog 199 #[.string s,.int .i64 a,.bool attr] w fun e w'=>e= .returned (.tuple #[.string ⟨(OO s.data.toList a attr).toArray⟩,.int .i64 (OP s.data.toList a)])∧Below w.heap.size w w':=by
 by_cases h:0≤a∧s.data.toList.getD a.toNat 0=38
 ·obtain ⟨h0,h38⟩:=h
  obtain ⟨k,rfl⟩:∃k:Nat,a=k:=⟨a.toNat,by omega⟩
  rw [show ((k:Nat):Int).toNat=k by omega] at h38
  obtain ⟨e1,e2⟩:=xa s.data.toList k attr h38
  rw [e1,e2]
  by_cases hr:aX (s.data.toList.drop (k+1)) 0=true
  ·exact N8 s k attr w hs h38 hr
  ·rw [Bool.not_eq_true] at hr
   by_cases hb:aL af (s.data.toList.drop (k+1))=0
   ·exact Ly s k attr w hs h38 hr hb
   ·exact Lz s k attr w hs h38 hr hb
 ·obtain ⟨e1,e2⟩:=Nj s.data.toList a attr h
  rw [e1,e2]
  clear e1 e2
  by_cases h0:a<0
  ·clear h
   go_enter Tryz.func199,Tryz.ntmps199
   go_wp2
   go_ret2
   exact ⟨rfl,Below.refl _ _⟩
  ·obtain ⟨k,rfl⟩:∃k:Nat,a=k:=⟨a.toNat,by omega⟩
   by_cases h1:k<s.size
   ·have b38:(((s[k].toNat:Nat):Int) != 38)=true:=by
     rw [bne_iff_ne]
     intro e
     refine h ⟨by omega,?_⟩
     rw [show ((k:Nat):Int).toNat=k by omega,df s k h1]
     exact aT _ 38 (by decide) e
    clear h
    go_enter Tryz.func199,Tryz.ntmps199
    go_wp2
    go_ret2
    exact ⟨rfl,Below.refl _ _⟩
   ·have h2:(s.size:Int)≤(k:Int):=by omega
    clear h
    go_enter Tryz.func199,Tryz.ntmps199
    go_wp2
    go_ret2
    exact ⟨rfl,Below.refl _ _⟩
end Go.Proofs.YtajpoodpbbbkfaaGreatDoor
namespace Go.Proofs.YtajpoodpbbbkfaaGreatDoor
open Go.RowKit Go.Lib
theorem BD (attr:Bool) (s:ByteArray) (i:Nat) (h:i<s.size) (O:ByteArray) (hc:s[i]≠38) (heq:O.data.toList++dQ attr (s.data.toList.drop i)=dQ attr s.data.toList):(O++s.extract i (i+1)).data.toList++dQ attr (s.data.toList.drop (i+1))=dQ attr s.data.toList:=by
 rw [←heq,aj s i h,iO attr _ _ hc,ByteArray.data_append,Array.toList_append,cr s i h,List.append_assoc];rfl
theorem Im (attr:Bool) (s:ByteArray) (i:Nat) (h:i<s.size) (O:ByteArray) (hc:s[i]=38) (heq:O.data.toList++dQ attr (s.data.toList.drop i)=dQ attr s.data.toList):(O.data.toList++cO (s.data.toList.drop (i+1)) attr)++dQ attr (s.data.toList.drop (i+1+ce (s.data.toList.drop (i+1))))=dQ attr s.data.toList∧i+1+ce (s.data.toList.drop (i+1))≤s.size:=by
 constructor
 ·rw [←heq,aj s i h,hc,kz,List.append_assoc,List.drop_drop]
 ·have h1:=oh (s.data.toList.drop (i+1))
  rw [List.length_drop,←Lib.size_eq] at h1
  omega
theorem jq (s : ByteArray) (attr : Bool) (w : World) (hs : s.size ≤ 1099511627776) :
    Calls Tryz.prog 170 #[.string s, .bool attr] w fun e w' => e = .returned (.string ⟨(dQ attr s.data.toList).toArray⟩) ∧ Below w.heap.size w w' := by
  go_enter Tryz.func170, Tryz.ntmps170
  go_wp2
  go_loopw [5, 6] (fun o v wr => ∃ (i : Nat) (O : ByteArray), o = .string O ∧ v = .int .i64 (i : Int) ∧ Below w.heap.size w wr ∧ i ≤ s.size ∧ O.data.toList ++ dQ attr (s.data.toList.drop i) = dQ attr s.data.toList ∧ O.size ≤ 3 * i) (fun _ v _ => s.size - (ae v).toNat)
  case atStart => exact ⟨0, ⟨#[]⟩, rfl, rfl, Below.refl _ w, Nat.zero_le _, rfl, Nat.zero_le _⟩
  case round =>
    obtain ⟨i, O, rfl, rfl, hbw, hle, heq, hO⟩ := hrel
    by_cases hlt : i < s.size
    · by_cases h38 : s[i] = 38
      · have b38 : (((s[i].toNat : Nat) : Int) != 38) = false := oj _ 38 (by decide) h38
        obtain ⟨e1, e2⟩ := Im attr s i hlt O h38 heq
        have hg : s.data.toList.getD i 0 = 38 := by rw [df s i hlt]; exact h38
        obtain ⟨r1, r2⟩ := xa s.data.toList i attr hg
        have ht := (lw (s.data.toList.drop (i + 1)) attr).2
        have HR := fun w => Lib.hid (N9 s (i : Int) attr w hs (by omega))
        rw [r1, r2, show (i : Int) + 1 + (ce (s.data.toList.drop (i + 1)) : Int) = ((i + 1 + ce (s.data.toList.drop (i + 1)) : Nat) : Int) by omega] at HR
        obtain ⟨M, hM⟩ : ∃ M, i + 1 + ce (s.data.toList.drop (i + 1)) = M := ⟨_, rfl⟩
        rw [hM] at HR e1 e2
        obtain ⟨X, hX⟩ : ∃ X : ByteArray, ⟨(cO (s.data.toList.drop (i + 1)) attr).toArray⟩ = X := ⟨_, rfl⟩
        have hXl : X.data.toList = cO (s.data.toList.drop (i + 1)) attr := by rw [← hX, List.toList_toArray]
        have hXn : X.size = (cO (s.data.toList.drop (i + 1)) attr).length := by rw [Lib.size_eq, hXl]
        have hXs : O.size + X.size ≤ 3 * M := by omega
        have hM1 : i < M := by omega
        have hov : ¬ 9223372036854775807 < O.size + X.size := by omega
        have HE := Lib.hid (show (O ++ X).data.toList ++ dQ attr (s.data.toList.drop M) = dQ attr s.data.toList by
          rw [ByteArray.data_append, Array.toList_append, hXl]; exact e1)
        rw [hX] at HR
        clear hX hXl hXn ht e1 heq h38 hg r1 r2 hM
        go_wp2_with (fail)
        refine (HR _).out.mono ?_
        rintro e w1 ⟨rfl, b1⟩
        have B1 := hbw.trans (b1.mono hbw.size)
        go_wp2
        go_roundw
        case rel => exact ⟨M, _, rfl, rfl, B1, e2, HE.out, by rw [ByteArray.size_append]; omega⟩
        case measure => simp [ae]; omega
      · have b38 : (((s[i].toNat : Nat) : Int) != 38) = true := by
          rw [bne_iff_ne]; exact fun h => h38 (aT _ 38 (by decide) h)
        have HE := Lib.hid (BD attr s i hlt O h38 heq)
        clear heq h38
        go_wp2
        go_roundw
        case rel => exact ⟨i + 1, _, rfl, rfl, hbw, by omega, HE.out, by simp; omega⟩
        case measure => simp [ae]; omega
    · have HE := Lib.hid heq
      clear heq
      go_wp2
      go_ret
      refine ⟨aO ?_, hbw⟩
      have := HE.out
      rw [List.drop_eq_nil_of_le (by rw [← Lib.size_eq]; omega), BA, List.append_nil] at this
      rw [← this]
end Go.Proofs.YtajpoodpbbbkfaaGreatDoor
namespace Go.Proofs.YtajpoodpbbbkfaaGreatDoor
open Go.RowKit Go.Lib
theorem DE:∀l:ab,∃p rest,l=p++rest∧38∉p∧(rest=[]∨∃z,rest=38::z)
 |[]=>⟨[],[],rfl,by simp,.inl rfl⟩
 |c::l=>by
  by_cases h:c=38
  ·subst h;exact ⟨[],38::l,rfl,by simp,.inr ⟨l,rfl⟩⟩
  ·obtain ⟨p,rest,h1,h2,h3⟩:=DE l
   refine ⟨c::p,rest,by rw [h1];rfl,?_,h3⟩
   rw [List.mem_cons,not_or]
   exact ⟨fun e=>h e.symm,h2⟩
theorem In (attr:Bool) (l p acc:ab) (i:Nat) (hp:l.drop i=p) (h38:38∉p) (heq:acc++dQ attr (l.drop i)=dQ attr l):acc++p=dQ attr l:=by
 rw [hp,Ih attr p h38] at heq;exact heq
theorem Io (attr:Bool) (l p z acc:ab) (i:Nat) (hp:l.drop i=p++38::z) (h38:38∉p) (heq:acc++dQ attr (l.drop i)=dQ attr l):l.getD (i+p.length) 0=38∧l.drop (i+p.length+1)=z∧i+p.length+1+z.length=l.length∧(acc++p++cO z attr)++dQ attr (l.drop (i+p.length+1+ce z))=dQ attr l:=by
 have h1:l.drop (i+p.length)=38::z:=by rw [←List.drop_drop,hp,List.drop_left]
 have h2:l.drop (i+p.length+1)=z:=by rw [←List.drop_drop,h1];rfl
 have h3:i+p.length<l.length:=by
  refine Nat.lt_of_not_le fun h=>?_
  rw [List.drop_eq_nil_of_le h] at h1
  exact absurd h1.symm (List.cons_ne_nil _ _)
 refine ⟨?_,h2,?_,?_⟩
 ·rw [List.getD_eq_getElem?_getD,←Nat.add_zero (i+p.length),←List.getElem?_drop,h1];rfl
 ·have:=congrArg List.length h1
  rw [List.length_drop,List.length_cons] at this
  omega
 ·rw [←List.drop_drop,h2,←heq,hp,jG attr _ p h38,kz]
  simp only [List.append_assoc]
theorem ns (s:ByteArray) (attr:Bool) (w:World) (hs:s.size≤1099511627776) (hT:iK w) (hE:ob w):Calls Tryz.prog 109 #[.string s,.bool attr] w fun e w'=>e= .returned (.string ⟨(dQ attr s.data.toList).toArray⟩)∧Below w.heap.size w w':=by
 have HT:=Lib.hid hT
 have HE:=Lib.hid hE
 clear hT hE
 go_enter Tryz.func109,Tryz.ntmps109
 go_wp2
 refine cV 0 (fun a' wr=>∃(at_:Nat) (acc:List UInt8) (u2 u3 u7 u8 u9 u10 u11 u12 u13 u14 u15 u16 u17 u18 u19 u20 u21 u22 u23 u24 u25 u26 u27 u28 u29 u30 u31 u32 u33 u34 u35 u36 u37 u38 u39 u40:Value),a'={tmps:=#[.string s,.bool attr,u2,u3,.string ⟨#[]⟩,.pointer (some ⟨w.heap.size,0,none⟩),.int .i64 (at_:Int),u7,u8,u9,u10,u11,u12,u13,u14,u15,u16,u17,u18,u19,u20,u21,u22,u23,u24,u25,u26,u27,u28,u29,u30,u31,u32,u33,u34,u35,u36,u37,u38,u39,u40],defers:=[]}∧Lib.IsBuilderF 54 5 w.heap.size w.heap.size (Lib.byteCells acc) wr∧Below w.heap.size w wr∧at_≤s.size∧acc++dQ attr (s.data.toList.drop at_)=dQ attr s.data.toList∧acc.length≤3*at_) (fun a' _=>s.size-(ae (a'.tmps.getD 6 undef)).toNat) rfl ?_ ?_
 ·rintro a' wr ⟨at_,acc,u2,u3,u7,u8,u9,u10,u11,u12,u13,u14,u15,u16,u17,u18,u19,u20,u21,u22,u23,u24,u25,u26,u27,u28,u29,u30,u31,u32,u33,u34,u35,u36,u37,u38,u39,u40,rfl,hI,hbw,hle,heq,hacc⟩
  have hsz:=hbw.size
  obtain ⟨p,rest,hp,h38,hrest⟩:=DE (s.data.toList.drop at_)
  have hxs:(s.extract at_ s.size).size≤1099511627776:=by rw [ByteArray.size_extract];omega
  have HC:=fun w=>Lib.hid (mc (s.extract at_ s.size) 38 p rest w hxs (by rw [extract_data,List.take_of_length_le (by rw [List.length_drop,←Lib.size_eq];omega)];exact hp) h38 hrest)
  unfold ua at HC
  obtain ⟨L,hL⟩:∃L:ByteArray,⟨p.toArray⟩=L:=⟨_,rfl⟩
  have hLl:L.data.toList=p:=by rw [←hL,List.toList_toArray]
  have hLs:L.size=p.length:=by rw [Lib.size_eq,hLl]
  have hlen:at_+p.length+rest.length=s.size:=by
   have:=congrArg List.length hp
   rw [List.length_drop,←Lib.size_eq,List.length_append] at this
   omega
  rw [hL] at HC
  rcases hrest with rfl|⟨z,rfl⟩
  ·have HE2:=Lib.hid (In attr s.data.toList p acc at_ (by rw [hp,List.append_nil]) h38 heq)
   have hLb:at_+L.size≤s.size:=by omega
   have HLc:=Lib.hid (show Lib.strCells L=Lib.byteCells p by rw [←hLl];rfl)
   clear heq hp h38 hL hLl hLs hlen hxs
   go_wp2_with (fail)
   refine (HC _).out.mono ?_
   rintro e w1 ⟨rfl,n1,rfl⟩
   have hI1:=Lib.IsBuilderF.below hI (ai _ wr n1)
   go_wp2_with (fail)
   refine (et w.heap.size w.heap.size _ L _ hI1 (by rw [byteCells_length];omega) hsz).mono ?_
   rintro e w2 ⟨rfl,h1,b1,-⟩
   rw [HLc.out,←byteCells_append] at h1
   go_wp2_with (fail)
   refine (Tryz.Builder_String_any_k w.heap.size w.heap.size (acc++p) _ (.inr h1) (Nat.le_trans (show w.heap.size≤(wr.drewN n1).heap.size from hsz) b1.size)).mono ?_
   rintro e w3 ⟨rfl,_,b2,_⟩
   go_wp2
   simp only [Exit.jump]
   go_ret
   refine ⟨aO (by rw [HE2.out]),((hbw.trans (ai _ wr n1)).trans b1).trans b2⟩
  ·obtain ⟨k1,k2,k3,k4⟩:=Io attr s.data.toList p z acc at_ hp h38 heq
   have hm:=oh z
   have ht:=(lw z attr).2
   rw [←Lib.size_eq] at k3
   have HR:=fun w h1 h2=>Lib.hid (N7 s ((at_+p.length:Nat):Int) attr w hs (by omega) h1 h2)
   obtain ⟨r1,r2⟩:=xa s.data.toList (at_+p.length) attr k1
   rw [r1,r2,k2,show ((at_+p.length:Nat):Int)+1+(ce z:Int)=((at_+p.length+1+ce z:Nat):Int) by omega,show ((at_+p.length:Nat):Int)=(at_:Int)+(L.size:Int) by omega] at HR
   obtain ⟨M,hM⟩:∃M,at_+p.length+1+ce z=M:=⟨_,rfl⟩
   rw [hM] at HR k4
   have hM1:at_<M:=by omega
   have hM2:M≤s.size:=by omega
   have hM3:acc.length+p.length+(cO z attr).length≤3*M:=by omega
   have hLb:at_+L.size≤s.size:=by omega
   obtain ⟨X,hX⟩:∃X:ByteArray,⟨(cO z attr).toArray⟩=X:=⟨_,rfl⟩
   have hXl:X.data.toList=cO z attr:=by rw [←hX,List.toList_toArray]
   have hXn:X.size=(cO z attr).length:=by rw [Lib.size_eq,hXl]
   have hXs:acc.length+L.size+X.size≤3*M:=by omega
   have HXn:=Lib.hid hXn
   have HXc:=Lib.hid (show Lib.strCells X=Lib.byteCells (cO z attr) by rw [←hX];rfl)
   have HLc:=Lib.hid (show Lib.strCells L=Lib.byteCells p by rw [←hLl];rfl)
   have HK:=Lib.hid k4
   have HLs:=Lib.hid hLs
   rw [hX] at HR
   clear hX hXl hXn hM heq hp h38 hL hLl hLs hlen hxs k1 k2 k3 k4 r1 r2 ht hm
   go_wp2_with (fail)
   refine (HC _).out.mono ?_
   rintro e w1 ⟨rfl,n1,rfl⟩
   have hI1:=Lib.IsBuilderF.below hI (ai _ wr n1)
   go_wp2_with (fail)
   refine (et w.heap.size w.heap.size _ L _ hI1 (by rw [byteCells_length];omega) hsz).mono ?_
   rintro e w2 ⟨rfl,h1,b1,-⟩
   rw [HLc.out,←byteCells_append] at h1
   have B2:=(hbw.trans (ai w.heap.size wr n1)).trans b1
   have hs2:w.heap.size≤w2.heap.size:=B2.size
   go_wp2_with (fail)
   refine (HR _ (HT.out.below B2) (HE.out.below B2)).out.mono ?_
   rintro e w3 ⟨rfl,b3⟩
   have B3:=B2.trans (b3.mono hs2)
   have h3:=Lib.IsBuilderF.below (.inr h1) b3
   go_wp2_with (fail)
   refine (et w.heap.size w.heap.size _ X _ h3 (by rw [byteCells_length,List.length_append,←HLs.out];omega) B3.size).mono ?_
   rintro e w4 ⟨rfl,h4,b4,-⟩
   rw [HXc.out,←byteCells_append] at h4
   go_wp2
   go_step3
   refine ⟨rfl,⟨M,acc++p++cO z attr,_,_,_,_,_,_,_,_,_,_,_,_,_,_,_,_,_,_,_,_,_,_,_,_,_,_,_,_,_,_,_,_,_,_,_,_,rfl,.inr h4,B3.trans b4,hM2,HK.out,by rw [List.length_append,List.length_append];exact hM3⟩,?_⟩
   simp [ae];omega
 ·intro hpass
  go_wp2_with (fail)
  refine (Tryz.Builder_Grow_fresh w.heap.size w.heap.size s.size _ (Nat.le_refl _) (heap_alloc_new w _) (by simp) (by omega)).mono ?_
  rintro e w2 ⟨rfl,hB0,hbel0⟩
  have hI0:Lib.IsBuilderF 54 5 w.heap.size w.heap.size [] w2:=Lib.IsBuilderF.of (.inr hB0)
  go_wp2
  go_step3
  rename_i K hK
  refine hK _ _ (hpass _ _ ?_)
  exact ⟨0,[],_,_,_,_,_,_,_,_,_,_,_,_,_,_,_,_,_,_,_,_,_,_,_,_,_,_,_,_,_,_,_,_,_,_,_,_,rfl,hI0,((Below.refl _ w).alloc (Nat.le_refl _) _).trans hbel0,Nat.zero_le _,rfl,Nat.zero_le _⟩
end Go.Proofs.YtajpoodpbbbkfaaGreatDoor
namespace Go.Proofs.YtajpoodpbbbkfaaGreatDoor
open Go.ChangeShapes Go.WideShapes Go.ChangeAt Go.RowKit
theorem O3:Tryz.prog.globalNamed "strconv.ErrSyntax" =some 2:=by kernel_rfl
theorem Iq : (Tryz.prog.globals[2]?).map (·.type) = some 57 := by kernel_rfl
theorem E7:Tryz.prog.cellsOf 211=1:=by kernel_rfl
theorem Ir:Tryz.prog.cellsOf 9=1:=by kernel_rfl
theorem DF: "*" ++ "errors.errorString" = "*errors.errorString" :=by decide
theorem Oa (u:TypeId) (h:Tryz.prog.typeName? 3 u=some "*errors.errorString"):u=209:=
 typeName_ptr_named (nm:= "errors.errorString") (by rw [DF];kernel_rfl) (by kernel_rfl) (by decide) u (by rw [DF];exact h)
theorem O4:Tryz.prog.globalNamed "flail/number.others" =some 1:=by kernel_rfl
theorem Is : (Tryz.prog.globals[1]?).map (·.type) = some 190 := by kernel_rfl
theorem It:Tryz.prog.cellsOf 190=32:=by kernel_rfl
theorem Iu:Tryz.prog.cellsOf 3=1:=by kernel_rfl
structure bn (w:World):Prop where
 tab:iK w
 err:ob w
 max:qA w
theorem bn.below {w w':World} (h:bn w) (hb:Below w.heap.size w w'):bn w':=⟨h.tab.below hb,h.err.below hb,h.max.below hb⟩
theorem ly {W:World} (h:laidMetH Tryz.prog Rows.sanitizeTellsRow.laid W) (hsh:W.ShapedOpen Tryz.prog):bn W:=by
 have h':laidMet Tryz.prog Rows.sanitizeTellsRow.laid W:=h
 obtain ⟨ps,⟨g0,t0,cs0,f0,p0,q0,hg0,ht0,hv0,hd0,⟨g1,t1,cs1,f1,p1,q1,hg1,ht1,hv1,hd1,⟨g2,t2,cs2,f2,p2,q2,hg2,ht2,hv2,hd2,⟨g3,t3,cs3,f3,p3,q3,hg3,ht3,hv3,hd3,⟨g4,t4,cs4,f4,p4,q4,hg4,ht4,hv4,hd4,⟨g5,t5,cs5,f5,p5,q5,hg5,ht5,hv5,hd5,hq5,e5⟩,e4⟩,e3⟩,e2⟩,e1⟩,e0⟩,hnd,hrows⟩:=h'
 obtain rfl:=Option.some.inj (O3.symm.trans hg4)
 obtain rfl:=Option.some.inj (Iq.symm.trans ht4)
 obtain rfl:=Option.some.inj (O4.symm.trans hg5)
 obtain rfl:=Option.some.inj (Is.symm.trans ht5)
 have hT:Lib.TabIs Tryz.prog W "flail/number.others" .i64 qY:=by
  have:=Lib.cells_of_tab (zs:=qY) (k:= .i64) Tryz.underlying190 Tryz.underlying3 Iu It hd5
  unfold Lib.TabIs
  rw [hv5,←this]
 obtain ⟨l4⟩:=cs4
 have ok4:∀u v,l4=[.iface u v]→Value.okWide Tryz.prog W .any 0 u v:=fun u v e=>by
  subst e
  subst e5;subst e4;subst e3;subst e2;subst e1;subst e0
  exact (hrows 2 0 (by simp [MemPlace.row])).2 u v (by simpa using World.var?_cell hg4 hv4 0)
 obtain ⟨a4,s4,rfl,-⟩:=errorString_of_trod Tryz.underlying57 Oa Tryz.underlying209 Tryz.underlying211 rfl rfl Tryz.underlying9 E7 Ir hd4 ok4
 have hc:W.cell? ⟨2,0,none⟩=some (.iface 209 (.pointer (some a4))):=by simpa using World.var?_cell O3 hv4 0
 have hc5:∀i,i<32→W.cell? ⟨1,i,none⟩=some (.int .i64 (qY.getD i 0)):=fun i hi=>hT.cell O4 i hi
 refine ⟨⟨?_,hc5⟩,⟨?_,_,_,hc⟩,Ig hsh⟩
 ·rcases Nat.lt_or_ge 1 W.heap.size with h'|h'
  ·omega
  ·have:=hc5 0 (by decide)
   simp [World.cell?,Array.getElem?_eq_none h'] at this
 ·rcases Nat.lt_or_ge 2 W.heap.size with h'|h'
  ·exact h'
  ·simp [World.cell?,Array.getElem?_eq_none h'] at hc
noncomputable def ci (os:Os):World:=World.doorLaid Tryz.prog 67 os
end Go.Proofs.YtajpoodpbbbkfaaGreatDoor
