/-
  Texts laid together: RefMath, RefCode, RefDoc, RefDecD, RefDec, RefLaid.
-/
import Derived.Test.YtpmdcppnlggckaaGreatDoorP5
import Derived.Test.YtpmdcppnlggckaaGreatDoorP2
import Derived.KernelRfl
import Derived.Test.YtpmdcppnlggckaaGreatDoorP1
import Derived.Test.YtpmdcppnlggckaaGreatDoorP4
import Derived.Test.YtpmdcppnlggckaaGreatDoorP3
import Derived.Shelf.Strings.MapGrows
import Derived.Test.YtpmdcppnlggckaaGreatDoorTie
import Derived.Test.YtpmdcppnlggckaaGreatDoorMaxLen
import Derived.ProofKit
import Derived.OpenShut
import Derived.Deep.DeepHandedRow
import Derived.LaidMore
import Derived.LaidLaws
import Derived.RowKitTokens
import Derived.Lib.LaidTab
set_option maxHeartbeats 4000000
set_option maxRecDepth 1000000
namespace Go.Proofs.YtpmdcppnlggckaaGreatDoor
open Go.RowKit Go.Lib
def lB (c:UInt8):Bool:=Nat.ble 48 c.toNat&&Nat.ble c.toNat 57||(Nat.ble 65 c.toNat&&Nat.ble c.toNat 90||Nat.ble 97 c.toNat&&Nat.ble c.toNat 122)
theorem sL (c:UInt8):pG (c.toNat:Int)=lB c:=by
 unfold pG bz jX lB
 rw [Bool.eq_iff_iff]
 simp only [Bool.or_eq_true,Bool.and_eq_true,decide_eq_true_eq,Nat.ble_eq]
 omega
def KW:ab→Bool
 |[]=>false
 |c::t=>lB c&&t.all fun x=>lB x||x==59
theorem Hy:ah.all (fun r=>KW r.1)=true:=by kernel_rfl
theorem Em (r:Ln) (hr:r∈ah):∃c t,r.1=c::t∧lB c=true∧∀x∈t,lB x=true∨x=59:=by
 have h:=List.all_eq_true.1 Hy r hr
 cases e:r.1 with
 |nil=>rw [e] at h;exact absurd h (by decide)
 |cons c t=>
  rw [e,KW,Bool.and_eq_true,List.all_eq_true] at h
  refine ⟨c,t,rfl,h.1,fun x hx=>?_⟩
  have:=h.2 x hx
  rw [Bool.or_eq_true,beq_iff_eq] at this
  exact this
theorem wl (r:Ln) (hr:r∈ah) (x:UInt8) (hx:x∈r.1):lB x=true∨x=59:=by
 obtain ⟨c,t,e,h1,h2⟩:=Em r hr
 rw [e] at hx
 rcases List.mem_cons.1 hx with rfl|hx
 ·exact .inl h1
 ·exact h2 x hx
theorem lQ (p z:ab) (i:Nat):(p++z).getD (p.length+i) 0=z.getD i 0:=by
 rw [List.getD_eq_getElem?_getD,List.getElem?_append_right (by omega),List.getD_eq_getElem?_getD]
 congr 2;omega
theorem nL (p z:ab) (i:Nat):nv (p++z) (p.length+i)=nv z i:=by
 unfold nv;rw [lQ]
theorem qk (p z:ab):bC (p++z) p.length=p.length+bC z 0:=by
 unfold bC
 rw [nL p z 1]
 split<;>omega
theorem jy (p z:ab):aC (p++z) p.length=aC z 0:=by
 unfold aC
 rw [nL p z 1,qk,←List.drop_drop,List.drop_left]
theorem BO (p z:ab):cw (p++z) p.length=p.length+cw z 0:=by
 rw [uh,uh,jy,qk,Nat.add_assoc,lQ]
 split<;>omega
theorem BP (p z:ab):be (p++z) (p.length:Int)=be z 0∧fp (p++z) p.length=fp z 0:=by
 constructor
 ·unfold be
  rw [show ((p.length:Nat):Int).toNat=p.length+0 by omega,lQ,Nat.add_zero,jy,show (0:Int).toNat=0 from rfl]
  exact decide_eq_decide.2 ⟨fun h=>⟨by omega,h.2⟩,fun h=>⟨by omega,h.2⟩⟩
 ·unfold fp
  rw [nL p z 1,jy]
def lC:ab→Bool
 |[]=>false
 |c::_=>c==61||lB c
noncomputable def ql (z:ab) (attr:Bool):Bool:=attr&& !hasSuffix (z.take (aM ah z)) [59]&&lC (z.drop (aM ah z))
noncomputable def cN (z:ab):Nat:=if be z 0 then cw z 0 else aM ah z
noncomputable def de (z:ab) (attr:Bool):ab:=
 if be z 0 then (fV (fp z 0)).data.toList
 else if aM ah z=0 then [38]
 else if ql z attr then 38::z.take (aM ah z)
 else eL (rF (ax (z.take (aM ah z)))) (qb (ax (z.take (aM ah z))))
theorem qm (z:ab) (h:be z 0=true):2≤cw z 0∧cw z 0≤z.length:=by
 have h1:=Ek ⟨z.toArray⟩ 0 (by rw [List.toList_toArray];exact h)
 have hs:(ByteArray.mk z.toArray).size=z.length:=by rw [Lib.size_eq,List.toList_toArray]
 obtain ⟨a,b,-⟩:=h1
 rw [hs] at b
 exact ⟨a,b⟩
theorem pp (z:ab):cN z≤z.length:=by
 unfold cN
 by_cases h:be z 0=true
 ·rw [if_pos h];exact (qm z h).2
 ·rw [if_neg h];exact kK _ _
theorem ui (z:ab) (h:aM ah z≠0):(ax (z.take (aM ah z))).isSome=true∧(z.take (aM ah z)).length=aM ah z:=by
 refine ⟨?_,by rw [List.length_take];exact Nat.min_eq_left (kK _ _)⟩
 rcases fI ah z with h0|⟨r,hr,hp,e⟩
 ·exact absurd h0 h
 ·rw [e,←List.prefix_iff_eq_take.1 hp,t7 hr];rfl
theorem mz (z:ab) (attr:Bool):1≤(de z attr).length∧(de z attr).length≤3*(cN z+1):=by
 unfold de cN
 by_cases h:be z 0=true
 ·rw [if_pos h,if_pos h]
  have h1:=Ej (fp z 0)
  rw [Lib.size_eq] at h1
  have h2:=qm z h
  omega
 ·rw [if_neg h,if_neg h]
  by_cases h0:aM ah z=0
  ·rw [if_pos h0];show 1≤1∧1≤_;omega
  ·rw [if_neg h0]
   have h1:=ui z h0
   by_cases hk:ql z attr=true
   ·rw [if_pos hk,List.length_cons,h1.2];omega
   ·rw [if_neg hk]
    have h2:=D9 _ h1.1
    rw [h1.2] at h2
    omega
noncomputable def HU (attr:Bool):Nat→ab→ab
 |0,_=>[]
 |_,[]=>[]
 |f+1,c::z=>if c=38 then de z attr++HU attr f (z.drop (cN z)) else c::HU attr f z
noncomputable def ej (attr:Bool) (l:ab):ab:=HU attr l.length l
theorem uj (attr:Bool):∀(f g:Nat) (l:ab),l.length≤f→l.length≤g→HU attr f l=HU attr g l
 |0,0,_,_,_=>rfl
 |0,g+1,[],_,_=>rfl
 |f+1,0,[],_,_=>rfl
 |f+1,g+1,[],_,_=>rfl
 |0,_,c::z,h,_=>absurd h (by simp)
 |_,0,c::z,_,h=>absurd h (by simp)
 |f+1,g+1,c::z,h1,h2=>by
  rw [List.length_cons] at h1 h2
  rw [HU,HU,uj attr f g z (by omega) (by omega),uj attr f g (z.drop (cN z)) (by rw [List.length_drop];omega) (by rw [List.length_drop];omega)]
theorem yT (attr:Bool):ej attr []=[]:=rfl
theorem mA (attr:Bool) (c:UInt8) (z:ab) (h:c≠38):ej attr (c::z)=c::ej attr z:=by
 unfold ej
 rw [List.length_cons,HU,if_neg h]
theorem uk (attr:Bool) (z:ab):ej attr (38::z)=de z attr++ej attr (z.drop (cN z)):=by
 unfold ej
 rw [List.length_cons,HU,if_pos rfl,uj attr z.length (z.drop (cN z)).length _ (by rw [List.length_drop];omega) (Nat.le_refl _)]
theorem qn (attr:Bool) (z:ab):∀p:ab,38∉p→ej attr (p++z)=p++ej attr z
 |[],_=>rfl
 |c::p,h=>by
  rw [List.mem_cons,not_or] at h
  rw [List.cons_append,mA attr c _ (fun e=>h.1 e.symm),qn attr z p h.2];rfl
theorem Eo (attr:Bool) (p:ab) (h:38∉p):ej attr p=p:=by
 have:=qn attr [] p h
 rwa [List.append_nil,yT,List.append_nil] at this
theorem ki (attr:Bool):∀(n:Nat) (l:ab),l.length≤n→(ej attr l).length≤3*l.length
 |_,[],_=>by rw [yT];exact Nat.zero_le _
 |0,c::z,h=>absurd h (by simp)
 |n+1,c::z,h=>by
  rw [List.length_cons] at h
  by_cases hc:c=38
  ·subst hc
   have ih:=ki attr n (z.drop (cN z)) (by rw [List.length_drop];omega)
   have h1:=(mz z attr).2
   have h2:=pp z
   rw [List.length_drop] at ih
   rw [uk,List.length_append,List.length_cons]
   omega
  ·have ih:=ki attr n z (by omega)
   rw [mA attr c z hc,List.length_cons,List.length_cons]
   omega
end Go.Proofs.YtpmdcppnlggckaaGreatDoor
namespace Go.Proofs.YtpmdcppnlggckaaGreatDoor
open Go.RowKit Go.Lib
theorem BQ (l:ab) (j:Nat) (h:j≤l.length):be l (j:Int)=be (l.drop j) 0∧fp l j=fp (l.drop j) 0∧cw l j=j+cw (l.drop j) 0∧aM ah (fS l (j:Int) 32)=aM ah (l.drop j):=by
 have e:l.take j++l.drop j=l:=List.take_append_drop j l
 have hl:(l.take j).length=j:=by rw [List.length_take];omega
 have h1:=BP (l.take j) (l.drop j)
 have h2:=BO (l.take j) (l.drop j)
 have h3:=BI (l.take j) (l.drop j)
 rw [e,hl] at h1 h2 h3
 exact ⟨h1.1,h1.2,h2,by rw [h3,yR]⟩
theorem H5 (c:UInt8):(ca c=38)↔c=38:=by
 have h:=cz c
 unfold fm at h
 rw [←UInt8.toNat_inj,←UInt8.toNat_inj,show (38:UInt8).toNat=38 from rfl]
 split at h<;>omega
theorem pq (s:ByteArray) (k:Nat):bb s (k:Int) ⟨#[38]⟩=decide (s.data.toList.getD k 0=38):=by
 rw [gM s k 38 (by decide),decide_eq_decide];exact H5 _
theorem Ep (s : ByteArray) (k : Nat) (w : World) (hk : k ≤ s.size) :
    Calls Tryz.prog 194 #[.string s, .int .i64 (k : Int)] w fun e w' => e = .returned (.bool (lC (s.data.toList.drop k))) ∧ w' = w := by
  by_cases h : k < s.size
  · have HG := Lib.hid (show lC (s.data.toList.drop k) = (((s[k].toNat : Nat) : Int) == 61 || pG ((s[k].toNat : Nat) : Int)) by
      rw [aj s k h, lC, sL]
      congr 1
      rw [Bool.eq_iff_iff, beq_iff_eq, beq_iff_eq, ← UInt8.toNat_inj, show (61 : UInt8).toNat = 61 from rfl]
      omega)
    rw [HG.out]
    have HW := fun w => Lib.hid (word ((s[k].toNat : Nat) : Int) w (by omega) (by have := s[k].toNat_lt; omega))
    obtain ⟨b, hb⟩ : ∃ b, pG ((s[k].toNat : Nat) : Int) = b := ⟨_, rfl⟩
    rw [hb] at HW ⊢
    clear hb HG
    by_cases h1 : (((s[k].toNat : Nat) : Int) == 61) = true
    · go_enter Tryz.func194, Tryz.ntmps194
      go_wp2
      go_ret
      simp [h1]
    · rw [Bool.not_eq_true] at h1
      go_enter Tryz.func194, Tryz.ntmps194
      go_wp2_with (go_at_call 217; refine (HW _).out.mono ?_; rintro e w' ⟨rfl, rfl⟩)
      go_ret
      simp [h1]
  · have HG := Lib.hid (show lC (s.data.toList.drop k) = false by rw [List.drop_eq_nil_of_le (by rw [← Lib.size_eq]; omega)]; rfl)
    rw [HG.out]
    have h2 : decide (s.size ≤ k) = true := decide_eq_true (by omega)
    clear HG
    go_enter Tryz.func194, Tryz.ntmps194
    go_wp2
    go_ret
    trivial
noncomputable def KI (l:ab) (a:Int) (attr:Bool):ab:=if 0≤a∧l.getD a.toNat 0=38 then de (l.drop (a.toNat+1)) attr else []
noncomputable def KJ (l:ab) (a:Int):Int:=if 0≤a∧l.getD a.toNat 0=38 then a+1+(cN (l.drop (a.toNat+1)):Int) else a
theorem ul (l:ab) (k:Nat) (attr:Bool) (h:l.getD k 0=38):KI l (k:Int) attr=de (l.drop (k+1)) attr∧KJ l (k:Int)=(k:Int)+1+(cN (l.drop (k+1)):Int):=by
 have e:((k:Nat):Int).toNat=k:=by omega
 unfold KI KJ
 rw [e,if_pos ⟨by omega,h⟩,if_pos ⟨by omega,h⟩]
 exact ⟨rfl,rfl⟩
theorem Jl (l:ab) (a:Int) (attr:Bool) (h:¬(0≤a∧l.getD a.toNat 0=38)):KI l a attr=[]∧KJ l a=a:=by
 unfold KI KJ
 rw [if_neg h,if_neg h]
 exact ⟨rfl,rfl⟩
theorem J4 (s:ByteArray) (k:Nat) (attr:Bool) (w:World) (hs:s.size≤1099511627776) (h38:s.data.toList.getD k 0=38) (hT:gN w) (hr:be (s.data.toList.drop (k+1)) 0=true):Calls Tryz.prog 166 #[.string s,.int .i64 (k:Int),.bool attr] w fun e w'=>e= .returned (.tuple #[.string ⟨(de (s.data.toList.drop (k+1)) attr).toArray⟩,.int .i64 ((k:Int)+1+(cN (s.data.toList.drop (k+1)):Int))])∧Below w.heap.size w w':=by
 have hk:k<s.size:=bV s k (by rw [h38];decide)
 have hl:k+1≤s.data.toList.length:=by rw [←Lib.size_eq];omega
 obtain ⟨e1,e2,e3,-⟩:=BQ s.data.toList (k+1) hl
 rw [hr] at e1
 have HB:=fun w=>Lib.hid (cg s (k:Int) ⟨#[38]⟩ w hs (by decide) (by omega) (by omega))
 rw [pq,h38,show decide ((38:UInt8)=38)=true from rfl] at HB
 have HR:=fun w h=>Lib.hid (read s ((k:Int)+1) w hs (by omega) (by omega) h)
 have c:((k+1:Nat):Int)=(k:Int)+1:=by omega
 have f1:=mv (k:=k+1) e1
 have f2:=mw (k:=k+1) e1
 rw [c] at f1 f2 e1
 rw [f1,f2,e1,e2,e3] at HR
 obtain ⟨A,hA⟩:∃A,fV (fp (s.data.toList.drop (k+1)) 0)=A:=⟨_,rfl⟩
 obtain ⟨E,hE⟩:∃E:Int,((k+1+cw (s.data.toList.drop (k+1)) 0:Nat):Int)=E:=⟨_,rfl⟩
 have HA:Hid ((⟨(de (s.data.toList.drop (k+1)) attr).toArray⟩:ByteArray)=A):=Lib.hid (by unfold de;rw [if_pos hr,←hA])
 have HN:Hid ((k:Int)+1+(cN (s.data.toList.drop (k+1)):Int)=E):=Lib.hid (by unfold cN;rw [if_pos hr,←hE];omega)
 rw [hA,hE] at HR
 rw [HA.out,HN.out]
 clear hA hE HA HN f1 f2 e1 e2 e3 c hr h38
 have HT:=Lib.hid hT
 clear hT
 go_enter Tryz.func166,Tryz.ntmps166
 go_wp2_with (fail)
 refine (HB _).out.mono ?_
 rintro e w1 ⟨rfl,n1,rfl⟩
 go_wp2_with (fail)
 refine (HR _ (HT.out.drawn _)).out.mono ?_
 rintro e w1 ⟨rfl,n2,rfl⟩
 go_wp2
 go_ret2
 exact ⟨rfl,ai _ _ _⟩
theorem H6 (s:ByteArray) (k:Nat) (attr:Bool) (w:World) (hs:s.size≤1099511627776) (h38:s.data.toList.getD k 0=38) (hT:gN w) (hr:be (s.data.toList.drop (k+1)) 0=false) (hb:aM ah (s.data.toList.drop (k+1))=0):Calls Tryz.prog 166 #[.string s,.int .i64 (k:Int),.bool attr] w fun e w'=>e= .returned (.tuple #[.string ⟨(de (s.data.toList.drop (k+1)) attr).toArray⟩,.int .i64 ((k:Int)+1+(cN (s.data.toList.drop (k+1)):Int))])∧Below w.heap.size w w':=by
 have hk:k<s.size:=bV s k (by rw [h38];decide)
 have hl:k+1≤s.data.toList.length:=by rw [←Lib.size_eq];omega
 obtain ⟨e1,-,-,e4⟩:=BQ s.data.toList (k+1) hl
 rw [hr] at e1
 rw [hb] at e4
 have HB:=fun w=>Lib.hid (cg s (k:Int) ⟨#[38]⟩ w hs (by decide) (by omega) (by omega))
 rw [pq,h38,show decide ((38:UInt8)=38)=true from rfl] at HB
 have HR:=fun w h=>Lib.hid (read s ((k:Int)+1) w hs (by omega) (by omega) h)
 have HL:=fun w=>Lib.hid (lz s ((k:Int)+1) w (by omega))
 have c:((k+1:Nat):Int)=(k:Int)+1:=by omega
 rw [c] at e1 e4
 rw [jv e1,jw e1,e1] at HR
 rw [e4] at HL
 have HA:Hid ((⟨(de (s.data.toList.drop (k+1)) attr).toArray⟩:ByteArray)=⟨#[38]⟩):=Lib.hid (by unfold de;rw [hr,hb];rfl)
 have HN:Hid ((k:Int)+1+(cN (s.data.toList.drop (k+1)):Int)=(k:Int)+1):=Lib.hid (by unfold cN;rw [hr,hb];simp)
 rw [HA.out,HN.out]
 have z:(s.extract (k+1) (k+1)).size=0:=by rw [ByteArray.size_extract];omega
 clear HA HN e1 e4 c hr h38 hb
 have HT:=Lib.hid hT
 clear hT
 go_enter Tryz.func166,Tryz.ntmps166
 go_wp2_with (fail)
 refine (HB _).out.mono ?_
 rintro e w1 ⟨rfl,n1,rfl⟩
 go_wp2_with (fail)
 refine (HR _ (HT.out.drawn _)).out.mono ?_
 rintro e w1 ⟨rfl,n2,rfl⟩
 go_wp2_with (fail)
 refine (HL _).out.mono ?_
 rintro e w1 ⟨rfl,n3,rfl⟩
 go_wp2
 go_ret2
 exact ⟨rfl,ai _ _ _⟩
theorem H7 (s:ByteArray) (k:Nat) (attr:Bool) (w:World) (hs:s.size≤1099511627776) (h38:s.data.toList.getD k 0=38) (hT:gN w) (hE:mr w) (hr:be (s.data.toList.drop (k+1)) 0=false) (hb:aM ah (s.data.toList.drop (k+1))≠0):Calls Tryz.prog 166 #[.string s,.int .i64 (k:Int),.bool attr] w fun e w'=>e= .returned (.tuple #[.string ⟨(de (s.data.toList.drop (k+1)) attr).toArray⟩,.int .i64 ((k:Int)+1+(cN (s.data.toList.drop (k+1)):Int))])∧Below w.heap.size w w':=by
 have hk:k<s.size:=bV s k (by rw [h38];decide)
 have hl:k+1≤s.data.toList.length:=by rw [←Lib.size_eq];omega
 have hat:s[k]=38:=by rw [←cM s k hk];exact h38
 obtain ⟨e1,-,-,e4⟩:=BQ s.data.toList (k+1) hl
 rw [hr] at e1
 have HB:=fun w=>Lib.hid (cg s (k:Int) ⟨#[38]⟩ w hs (by decide) (by omega) (by omega))
 rw [pq,h38,show decide ((38:UInt8)=38)=true from rfl] at HB
 have HR:=fun w h=>Lib.hid (read s ((k:Int)+1) w hs (by omega) (by omega) h)
 have HL:=fun w=>Lib.hid (lz s ((k:Int)+1) w (by omega))
 have c:((k+1:Nat):Int)=(k:Int)+1:=by omega
 rw [c] at e1 e4
 rw [jv e1,jw e1,e1] at HR
 rw [e4] at HL
 have hle:=kK ah (s.data.toList.drop (k+1))
 rw [List.length_drop,←Lib.size_eq] at hle
 obtain ⟨his,hlen⟩:=ui _ hb
 have HA:Hid ((⟨(de (s.data.toList.drop (k+1)) attr).toArray⟩:ByteArray)=if ql (s.data.toList.drop (k+1)) attr then ⟨(38::(s.data.toList.drop (k+1)).take (aM ah (s.data.toList.drop (k+1)))).toArray⟩ else ⟨(eL (rF (ax ((s.data.toList.drop (k+1)).take (aM ah (s.data.toList.drop (k+1)))))) (qb (ax ((s.data.toList.drop (k+1)).take (aM ah (s.data.toList.drop (k+1))))))).toArray⟩):=Lib.hid (by
  unfold de;rw [hr,if_neg Bool.false_ne_true,if_neg hb];split<;>rfl)
 have HN:Hid ((k:Int)+1+(cN (s.data.toList.drop (k+1)):Int)=(k:Int)+1+(aM ah (s.data.toList.drop (k+1)):Int)):=Lib.hid (by unfold cN;rw [hr];rfl)
 rw [HN.out]
 obtain ⟨R,hR⟩:∃R:ByteArray,⟨(de (s.data.toList.drop (k+1)) attr).toArray⟩=R:=⟨_,rfl⟩
 rw [hR] at HA⊢
 unfold ql at HA
 obtain ⟨b,hB⟩:∃b,aM ah (s.data.toList.drop (k+1))=b:=⟨_,rfl⟩
 rw [hB] at HL HA his hlen hle hb⊢
 have hlt:k+1+b≤s.size:=by omega
 have hpos:0<b:=Nat.pos_of_ne_zero hb
 have hq:(s.extract (k+1) (k+1+b)).data.toList=(s.data.toList.drop (k+1)).take b:=by
  rw [extract_data];congr 1;omega
 have hqs:(s.extract (k+1) (k+1+b)).size=b:=by rw [ByteArray.size_extract];omega
 have hq2:s.extract k (k+1+b)=⟨(38::(s.data.toList.drop (k+1)).take b).toArray⟩:=bu (by
  rw [extract_data,List.toList_toArray,aj s k hk,hat,show k+1+b-k=b+1 by omega];rfl)
 rw [←hq2,←hq,List.drop_drop] at HA
 rw [←hq] at his
 have HS:=fun w=>Lib.hid (BD (s.extract (k+1) (k+1+b)) w (by omega))
 have HV:=fun w h=>Lib.hid (BA (s.extract (k+1) (k+1+b)) w h)
 have HG:=fun w=>Lib.hid (Ep s (k+1+b) w hlt)
 have HX:=fun w=>Lib.hid (D4 (rF (ax (s.extract (k+1) (k+1+b)).data.toList)) (qb (ax (s.extract (k+1) (k+1+b)).data.toList)) w (by have:=D0 (s.extract (k+1) (k+1+b)).data.toList;omega) (by have:=D1 (s.extract (k+1) (k+1+b)).data.toList;omega))
 have HC:=fun w=>Lib.hid (sG (s.extract k (k+1+b)) w (by rw [ByteArray.size_extract];omega))
 rw [his,Bool.true_and] at HS
 rw [his] at HV
 have c2:((k+1+b:Nat):Int)=(k:Int)+1+(b:Int):=by omega
 rw [c2] at HG
 obtain ⟨T,hT'⟩:∃T:ByteArray,⟨(eL (rF (ax (s.extract (k+1) (k+1+b)).data.toList)) (qb (ax (s.extract (k+1) (k+1+b)).data.toList))).toArray⟩=T:=⟨_,rfl⟩
 obtain ⟨X,hX⟩:∃X,fl (rF (ax (s.extract (k+1) (k+1+b)).data.toList))=X:=⟨_,rfl⟩
 obtain ⟨Y,hY⟩:∃Y,fl (qb (ax (s.extract (k+1) (k+1+b)).data.toList))=Y:=⟨_,rfl⟩
 rw [hX,hY] at HV HX
 rw [hT'] at HX HA
 obtain ⟨h,hh⟩:∃h,hasSuffix (s.extract (k+1) (k+1+b)).data.toList [59]=h:=⟨_,rfl⟩
 obtain ⟨g,hg⟩:∃g,lC (s.data.toList.drop (k+1+b))=g:=⟨_,rfl⟩
 rw [hh] at HS HA
 rw [hg] at HG HA
 have e0:(s.extract (k+1) (k+1+b)).toList.isEmpty=false:=by
  rw [ByteArray.toList_eq,List.isEmpty_eq_false_iff,←List.length_pos_iff,←Lib.size_eq,hqs];exact hpos
 have HT:=Lib.hid hT
 have HE:=Lib.hid hE
 clear hT hE hT' hX hY hh hg c c2 his hlen hle hb hB hR HN e1 e4 hq hq2 hr hat h38
 cases attr
 ·have HR0:Hid (R=T):=Lib.hid (by rw [HA.out];rfl)
  clear HA
  go_enter Tryz.func166,Tryz.ntmps166
  go_wp2_with (fail)
  refine (HB _).out.mono ?_
  rintro e w1 ⟨rfl,n1,rfl⟩
  go_wp2_with (fail)
  refine (HR _ (HT.out.drawn _)).out.mono ?_
  rintro e w1 ⟨rfl,n2,rfl⟩
  go_wp2_with (fail)
  refine (HL _).out.mono ?_
  rintro e w1 ⟨rfl,n3,rfl⟩
  go_wp2_with (fail)
  have b1:=ai w.heap.size w (n1+n2+n3)
  refine (HV _ (HE.out.below b1)).out.mono ?_
  rintro e w2 ⟨rfl,b2⟩
  go_wp2_with (fail)
  refine (HX _).out.mono ?_
  rintro e w3 ⟨rfl,rfl⟩
  go_wp2
  go_ret2
  rw [HR0.out]
  exact ⟨rfl,b1.trans (b2.mono b1.size)⟩
 ·cases h
  ·cases g
   ·have HR0:Hid (R=T):=Lib.hid (by rw [HA.out];rfl)
    clear HA
    go_enter Tryz.func166,Tryz.ntmps166
    go_wp2_with (fail)
    refine (HB _).out.mono ?_
    rintro e w1 ⟨rfl,n1,rfl⟩
    go_wp2_with (fail)
    refine (HR _ (HT.out.drawn _)).out.mono ?_
    rintro e w1 ⟨rfl,n2,rfl⟩
    go_wp2_with (fail)
    refine (HL _).out.mono ?_
    rintro e w1 ⟨rfl,n3,rfl⟩
    have b1:=ai w.heap.size w (n1+n2+n3)
    go_wp2_with (first|(go_at_call 193;refine (HS _).out.mono ?_;rintro e w2 ⟨rfl,b2⟩)|(go_at_call 194;refine (HG _).out.mono ?_;rintro e w' ⟨rfl,rfl⟩))
    have b3:=b1.trans (b2.mono b1.size)
    refine (HV _ (HE.out.below b3)).out.mono ?_
    rintro e w4 ⟨rfl,b4⟩
    go_wp2_with (fail)
    refine (HX _).out.mono ?_
    rintro e w5 ⟨rfl,rfl⟩
    go_wp2
    go_ret2
    rw [HR0.out]
    exact ⟨rfl,b3.trans (b4.mono b3.size)⟩
   ·have HR0:Hid (R=s.extract k (k+1+b)):=Lib.hid (by rw [HA.out];rfl)
    clear HA
    go_enter Tryz.func166,Tryz.ntmps166
    go_wp2_with (fail)
    refine (HB _).out.mono ?_
    rintro e w1 ⟨rfl,n1,rfl⟩
    go_wp2_with (fail)
    refine (HR _ (HT.out.drawn _)).out.mono ?_
    rintro e w1 ⟨rfl,n2,rfl⟩
    go_wp2_with (fail)
    refine (HL _).out.mono ?_
    rintro e w1 ⟨rfl,n3,rfl⟩
    have b1:=ai w.heap.size w (n1+n2+n3)
    go_wp2_with (first|(go_at_call 193;refine (HS _).out.mono ?_;rintro e w2 ⟨rfl,b2⟩)|(go_at_call 194;refine (HG _).out.mono ?_;rintro e w' ⟨rfl,rfl⟩))
    have b3:=b1.trans (b2.mono b1.size)
    refine (HC _).out.mono ?_
    rintro e w4 ⟨rfl,b4⟩
    go_wp2
    go_ret2
    rw [HR0.out]
    exact ⟨rfl,b3.trans (b4.mono b3.size)⟩
  ·have HR0:Hid (R=T):=Lib.hid (by rw [HA.out];cases g<;>rfl)
   clear HA
   go_enter Tryz.func166,Tryz.ntmps166
   go_wp2_with (fail)
   refine (HB _).out.mono ?_
   rintro e w1 ⟨rfl,n1,rfl⟩
   go_wp2_with (fail)
   refine (HR _ (HT.out.drawn _)).out.mono ?_
   rintro e w1 ⟨rfl,n2,rfl⟩
   go_wp2_with (fail)
   refine (HL _).out.mono ?_
   rintro e w1 ⟨rfl,n3,rfl⟩
   have b1:=ai w.heap.size w (n1+n2+n3)
   go_wp2_with (go_at_call 193;refine (HS _).out.mono ?_;rintro e w2 ⟨rfl,b2⟩)
   have b3:=b1.trans (b2.mono b1.size)
   refine (HV _ (HE.out.below b3)).out.mono ?_
   rintro e w4 ⟨rfl,b4⟩
   go_wp2_with (fail)
   refine (HX _).out.mono ?_
   rintro e w5 ⟨rfl,rfl⟩
   go_wp2
   go_ret2
   rw [HR0.out]
   exact ⟨rfl,b3.trans (b4.mono b3.size)⟩
theorem J5 (s : ByteArray) (a : Int) (attr : Bool) (w : World) (hs : s.size ≤ 1099511627776) (ha : -9223372036854775808 ≤ a ∧ a ≤ 9223372036854775807) (hT : gN w) (hE : mr w) :
    Calls Tryz.prog 166 #[.string s, .int .i64 a, .bool attr] w fun e w' => e = .returned (.tuple #[.string ⟨(KI s.data.toList a attr).toArray⟩, .int .i64 (KJ s.data.toList a)]) ∧ Below w.heap.size w w' := by
  by_cases h : 0 ≤ a ∧ s.data.toList.getD a.toNat 0 = 38
  · obtain ⟨h0, h38⟩ := h
    obtain ⟨k, rfl⟩ : ∃ k : Nat, a = k := ⟨a.toNat, by omega⟩
    rw [show ((k : Nat) : Int).toNat = k by omega] at h38
    obtain ⟨e1, e2⟩ := ul s.data.toList k attr h38
    rw [e1, e2]
    by_cases hr : be (s.data.toList.drop (k + 1)) 0 = true
    · exact J4 s k attr w hs h38 hT hr
    · rw [Bool.not_eq_true] at hr
      by_cases hb : aM ah (s.data.toList.drop (k + 1)) = 0
      · exact H6 s k attr w hs h38 hT hr hb
      · exact H7 s k attr w hs h38 hT hE hr hb
  · obtain ⟨e1, e2⟩ := Jl s.data.toList a attr h
    rw [e1, e2]
    have HB := fun w => Lib.hid (show Calls Tryz.prog 88 #[.string s, .int .i64 a, .string ⟨#[38]⟩] w fun e w' => e = .returned (.bool false) ∧ ∃ n, w' = w.drewN n from by
      have := cg s a ⟨#[38]⟩ w hs (by decide) ha.1 ha.2
      rwa [show bb s a ⟨#[38]⟩ = false from by
        by_cases h0 : a < 0
        · exact wh s a _ h0
        · obtain ⟨k, rfl⟩ : ∃ k : Nat, a = k := ⟨a.toNat, by omega⟩
          rw [pq]
          exact decide_eq_false fun h38 => h ⟨by omega, by rw [show ((k : Nat) : Int).toNat = k by omega]; exact h38⟩] at this)
    clear h e1 e2
    go_enter Tryz.func166, Tryz.ntmps166
    go_wp2_with (fail)
    refine (HB _).out.mono ?_
    rintro e w1 ⟨rfl, n1, rfl⟩
    go_wp2
    go_ret2
    exact ⟨rfl, ai _ _ _⟩
end Go.Proofs.YtpmdcppnlggckaaGreatDoor
namespace Go.Proofs.YtpmdcppnlggckaaGreatDoor
open Go.RowKit Go.Lib
theorem mB (c:UInt8) (n:Nat) (hn:n<256) (h:c=UInt8.ofNat n):((((c.toNat:Nat):Int) != (n:Int))=false):=by
 subst h
 rw [bne_eq_false_iff_eq,UInt8.toNat_ofNat'];omega
theorem J6 (s:ByteArray) (k:Nat) (attr:Bool) (w:World) (hs:s.size≤1099511627776) (h38:s.data.toList.getD k 0=38) (hr:be (s.data.toList.drop (k+1)) 0=true):Calls Tryz.prog 154 #[.string s,.int .i64 (k:Int),.bool attr] w fun e w'=>e= .returned (.tuple #[.string ⟨(de (s.data.toList.drop (k+1)) attr).toArray⟩,.int .i64 ((k:Int)+1+(cN (s.data.toList.drop (k+1)):Int))])∧Below w.heap.size w w':=by
 have hk:k<s.size:=bV s k (by rw [h38];decide)
 have hl:k+1≤s.data.toList.length:=by rw [←Lib.size_eq];omega
 have b38:(((s[k].toNat:Nat):Int) != 38)=false:=mB _ 38 (by decide) (by rw [←cM s k hk];exact h38)
 obtain ⟨e1,e2,e3,-⟩:=BQ s.data.toList (k+1) hl
 rw [hr] at e1
 have HR:=fun w=>Lib.hid (ug s ((k:Int)+1) w hs (by omega) (by omega))
 have c:((k+1:Nat):Int)=(k:Int)+1:=by omega
 have f1:=mv (k:=k+1) e1
 have f2:=mw (k:=k+1) e1
 rw [c] at f1 f2 e1
 rw [f1,f2,e1,e2,e3] at HR
 obtain ⟨A,hA⟩:∃A,fV (fp (s.data.toList.drop (k+1)) 0)=A:=⟨_,rfl⟩
 obtain ⟨E,hE⟩:∃E:Int,((k+1+cw (s.data.toList.drop (k+1)) 0:Nat):Int)=E:=⟨_,rfl⟩
 have HA:Hid ((⟨(de (s.data.toList.drop (k+1)) attr).toArray⟩:ByteArray)=A):=Lib.hid (by unfold de;rw [if_pos hr,←hA])
 have HN:Hid ((k:Int)+1+(cN (s.data.toList.drop (k+1)):Int)=E):=Lib.hid (by unfold cN;rw [if_pos hr,←hE];omega)
 rw [hA,hE] at HR
 rw [HA.out,HN.out]
 clear hA hE HA HN f1 f2 e1 e2 e3 c hr h38
 go_enter Tryz.func154,Tryz.ntmps154
 go_wp2_with (fail)
 refine (HR _).out.mono ?_
 rintro e w1 ⟨rfl,b1⟩
 go_wp2
 go_ret2
 exact ⟨rfl,b1⟩
theorem H8 (s:ByteArray) (k:Nat) (attr:Bool) (w:World) (hs:s.size≤1099511627776) (h38:s.data.toList.getD k 0=38) (hr:be (s.data.toList.drop (k+1)) 0=false) (hb:aM ah (s.data.toList.drop (k+1))=0):Calls Tryz.prog 154 #[.string s,.int .i64 (k:Int),.bool attr] w fun e w'=>e= .returned (.tuple #[.string ⟨(de (s.data.toList.drop (k+1)) attr).toArray⟩,.int .i64 ((k:Int)+1+(cN (s.data.toList.drop (k+1)):Int))])∧Below w.heap.size w w':=by
 have hk:k<s.size:=bV s k (by rw [h38];decide)
 have hl:k+1≤s.data.toList.length:=by rw [←Lib.size_eq];omega
 have b38:(((s[k].toNat:Nat):Int) != 38)=false:=mB _ 38 (by decide) (by rw [←cM s k hk];exact h38)
 obtain ⟨e1,-,-,e4⟩:=BQ s.data.toList (k+1) hl
 rw [hr] at e1
 rw [hb] at e4
 have HR:=fun w=>Lib.hid (ug s ((k:Int)+1) w hs (by omega) (by omega))
 have HL:=fun w=>Lib.hid (iF s ((k:Int)+1) w hs (by omega))
 have c:((k+1:Nat):Int)=(k:Int)+1:=by omega
 rw [c] at e1 e4
 rw [jv e1,jw e1,e1] at HR
 rw [e4] at HL
 have HA:Hid ((⟨(de (s.data.toList.drop (k+1)) attr).toArray⟩:ByteArray)=⟨#[38]⟩):=Lib.hid (by unfold de;rw [hr,hb];rfl)
 have HN:Hid ((k:Int)+1+(cN (s.data.toList.drop (k+1)):Int)=(k:Int)+1):=Lib.hid (by unfold cN;rw [hr,hb];simp)
 rw [HA.out,HN.out]
 clear HA HN e1 e4 c hr h38 hb
 go_enter Tryz.func154,Tryz.ntmps154
 go_wp2_with (fail)
 refine (HR _).out.mono ?_
 rintro e w1 ⟨rfl,b1⟩
 go_wp2_with (fail)
 refine (HL _).out.mono ?_
 rintro e w2 ⟨rfl,n2,rfl⟩
 go_wp2
 go_ret2
 exact ⟨rfl,b1.trans (ai _ _ _)⟩
theorem Ia (s:ByteArray) (k:Nat) (attr:Bool) (w:World) (hs:s.size≤1099511627776) (h38:s.data.toList.getD k 0=38) (hr:be (s.data.toList.drop (k+1)) 0=false) (hb:aM ah (s.data.toList.drop (k+1))≠0):Calls Tryz.prog 154 #[.string s,.int .i64 (k:Int),.bool attr] w fun e w'=>e= .returned (.tuple #[.string ⟨(de (s.data.toList.drop (k+1)) attr).toArray⟩,.int .i64 ((k:Int)+1+(cN (s.data.toList.drop (k+1)):Int))])∧Below w.heap.size w w':=by
 have hk:k<s.size:=bV s k (by rw [h38];decide)
 have hl:k+1≤s.data.toList.length:=by rw [←Lib.size_eq];omega
 have hat:s[k]=38:=by rw [←cM s k hk];exact h38
 have b38:(((s[k].toNat:Nat):Int) != 38)=false:=mB _ 38 (by decide) hat
 obtain ⟨e1,-,-,e4⟩:=BQ s.data.toList (k+1) hl
 rw [hr] at e1
 have HR:=fun w=>Lib.hid (ug s ((k:Int)+1) w hs (by omega) (by omega))
 have HL:=fun w=>Lib.hid (iF s ((k:Int)+1) w hs (by omega))
 have c:((k+1:Nat):Int)=(k:Int)+1:=by omega
 rw [c] at e1 e4
 rw [jv e1,jw e1,e1] at HR
 rw [e4] at HL
 have hle:=kK ah (s.data.toList.drop (k+1))
 rw [List.length_drop,←Lib.size_eq] at hle
 have HA:Hid ((⟨(de (s.data.toList.drop (k+1)) attr).toArray⟩:ByteArray)=if ql (s.data.toList.drop (k+1)) attr then ⟨(38::(s.data.toList.drop (k+1)).take (aM ah (s.data.toList.drop (k+1)))).toArray⟩ else ⟨(eL (rF (ax ((s.data.toList.drop (k+1)).take (aM ah (s.data.toList.drop (k+1)))))) (qb (ax ((s.data.toList.drop (k+1)).take (aM ah (s.data.toList.drop (k+1))))))).toArray⟩):=Lib.hid (by
  unfold de;rw [hr,if_neg Bool.false_ne_true,if_neg hb];split<;>rfl)
 have HN:Hid ((k:Int)+1+(cN (s.data.toList.drop (k+1)):Int)=(k:Int)+1+(aM ah (s.data.toList.drop (k+1)):Int)):=Lib.hid (by unfold cN;rw [hr];rfl)
 rw [HN.out]
 obtain ⟨R,hR⟩:∃R:ByteArray,⟨(de (s.data.toList.drop (k+1)) attr).toArray⟩=R:=⟨_,rfl⟩
 rw [hR] at HA⊢
 unfold ql at HA
 obtain ⟨b,hB⟩:∃b,aM ah (s.data.toList.drop (k+1))=b:=⟨_,rfl⟩
 rw [hB] at HL HA hle hb⊢
 have hlt:k+1+b≤s.size:=by omega
 have hpos:0<b:=Nat.pos_of_ne_zero hb
 have hq:(s.extract (k+1) (k+1+b)).data.toList=(s.data.toList.drop (k+1)).take b:=by
  rw [extract_data];congr 1;omega
 have hqs:(s.extract (k+1) (k+1+b)).size=b:=by rw [ByteArray.size_extract];omega
 have hq2:s.extract k (k+1+b)=⟨(38::(s.data.toList.drop (k+1)).take b).toArray⟩:=bu (by
  rw [extract_data,List.toList_toArray,aj s k hk,hat,show k+1+b-k=b+1 by omega];rfl)
 rw [←hq2,←hq,List.drop_drop] at HA
 have HV:=fun w=>Lib.hid (rH (s.extract (k+1) (k+1+b)) w (by omega))
 obtain ⟨T,hT'⟩:∃T:ByteArray,⟨(eL (rF (ax (s.extract (k+1) (k+1+b)).data.toList)) (qb (ax (s.extract (k+1) (k+1+b)).data.toList))).toArray⟩=T:=⟨_,rfl⟩
 rw [hT'] at HV HA
 obtain ⟨m,hm⟩:∃m,m=k+b:=⟨_,rfl⟩
 have hms:m<s.size:=by omega
 have hlast:(((s[m].toNat:Nat):Int) != 59)= !hasSuffix (s.extract (k+1) (k+1+b)).data.toList [59]:=by
  obtain ⟨j,rfl⟩:∃j,b=j+1:=⟨b-1,by omega⟩
  have:=Ht (s.extract (k+1) (k+1+(j+1))) j (by omega) hqs
  rw [←this]
  congr 3
  have e:(s.extract (k+1) (k+1+(j+1)))[j]'(by omega)=s[k+1+j]:=by simp [ByteArray.getElem_extract]
  rw [e]
  congr 2
  omega
 have hmi:(k:Int)+1+(b:Int)-1=(m:Int):=by omega
 obtain ⟨h,hh⟩:∃h,hasSuffix (s.extract (k+1) (k+1+b)).data.toList [59]=h:=⟨_,rfl⟩
 rw [hh] at hlast HA
 have HG:Hid (∀h:k+1+b<s.size,lC (s.data.toList.drop (k+1+b))=(((s[k+1+b].toNat:Nat):Int)==61||(bz ((s[k+1+b].toNat:Nat):Int)||jX ((s[k+1+b].toNat:Nat):Int)))):=Lib.hid (fun h=>by
  rw [aj s _ h,lC,←sL]
  congr 1
  rw [Bool.eq_iff_iff,beq_iff_eq,beq_iff_eq,←UInt8.toNat_inj,show (61:UInt8).toNat=61 from rfl]
  omega)
 have HG2:Hid (¬k+1+b<s.size→lC (s.data.toList.drop (k+1+b))=false):=Lib.hid (fun h=>by rw [List.drop_eq_nil_of_le (by rw [←Lib.size_eq];omega)];rfl)
 obtain ⟨g,hg⟩:∃g,lC (s.data.toList.drop (k+1+b))=g:=⟨_,rfl⟩
 rw [hg] at HG HG2 HA
 clear hT' hh hg c hle hb hB hR HN e1 e4 hq hq2 hr hat h38 hqs hm
 cases attr
 focus
  have HR0:Hid (R=T):=Lib.hid (by rw [HA.out];rfl)
  clear HA HG HG2
  clear hlast hmi
 rotate_left
 focus
  cases h
 focus
  by_cases hend:k+1+b<s.size
 ·have HLt:=fun w=>Lib.hid (nw ((s[k+1+b].toNat:Nat):Int) w (by omega) (by have:=s[k+1+b].toNat_lt;omega))
  have HD:=fun w=>Lib.hid (DE ((s[k+1+b].toNat:Nat):Int) w (by omega) (by have:=s[k+1+b].toNat_lt;omega))
  have HG3:=Lib.hid (HG.out hend)
  obtain ⟨l,hl'⟩:∃l,bz ((s[k+1+b].toNat:Nat):Int)=l:=⟨_,rfl⟩
  obtain ⟨d,hd'⟩:∃d,jX ((s[k+1+b].toNat:Nat):Int)=d:=⟨_,rfl⟩
  obtain ⟨q,hq'⟩:∃q,(((s[k+1+b].toNat:Nat):Int)==61)=q:=⟨_,rfl⟩
  rw [hl'] at HLt HG3
  rw [hd'] at HD HG3
  rw [hq'] at HG3
  clear hl' hd' HG HG2
  have hlast2:(((s[m].toNat:Nat):Int) != 59)=true:=hlast
  clear hlast
  cases q
  focus
   cases l
  focus
   cases d
  ·have HR0:Hid (R=T):=Lib.hid (by rw [HA.out,HG3.out];rfl)
   clear HA HG3
   go_enter Tryz.func154,Tryz.ntmps154
   go_wp2_with (fail)
   refine (HR _).out.mono ?_
   rintro e w1 ⟨rfl,b1⟩
   go_wp2_with (fail)
   refine (HL _).out.mono ?_
   rintro e w2 ⟨rfl,n2,rfl⟩
   have b3:=b1.trans (ai w.heap.size w1 n2)
   go_wp2_with (first|(go_at_call 113;refine (HLt _).out.mono ?_;rintro e w' ⟨rfl,rfl⟩)|(go_at_call 182;refine (HD _).out.mono ?_;rintro e w' ⟨rfl,rfl⟩))
   refine (HV _).out.mono ?_
   rintro e w4 ⟨rfl,b4⟩
   go_wp2
   go_ret2
   rw [HR0.out]
   exact ⟨rfl,b3.trans (b4.mono b3.size)⟩
  rotate_left
  rotate_left
  rotate_left
  all_goals
   have HR0:Hid (R=s.extract k (k+1+b)):=Lib.hid (by rw [HA.out,HG3.out];rfl)
   clear HA HG3
   go_enter Tryz.func154,Tryz.ntmps154
   go_wp2_with (fail)
   refine (HR _).out.mono ?_
   rintro e w1 ⟨rfl,b1⟩
   go_wp2_with (fail)
   refine (HL _).out.mono ?_
   rintro e w2 ⟨rfl,n2,rfl⟩
   have b3:=b1.trans (ai w.heap.size w1 n2)
   go_wp2_with (first|(go_at_call 113;refine (HLt _).out.mono ?_;rintro e w' ⟨rfl,rfl⟩)|(go_at_call 182;refine (HD _).out.mono ?_;rintro e w' ⟨rfl,rfl⟩))
   go_ret2
   rw [HR0.out]
   exact ⟨rfl,b3⟩
 focus
  have HR0:Hid (R=T):=Lib.hid (by rw [HA.out,HG2.out hend];rfl)
  clear HA HG HG2
  have hlast2:(((s[m].toNat:Nat):Int) != 59)=true:=hlast
  clear hlast
 rotate_left
 focus
  have HR0:Hid (R=T):=Lib.hid (by rw [HA.out];cases g<;>rfl)
  clear HA HG HG2
  have hlast2:(((s[m].toNat:Nat):Int) != 59)=false:=hlast
  clear hlast
 rotate_left
 all_goals
  go_enter Tryz.func154,Tryz.ntmps154
  go_wp2_with (fail)
  refine (HR _).out.mono ?_
  rintro e w1 ⟨rfl,b1⟩
  go_wp2_with (fail)
  refine (HL _).out.mono ?_
  rintro e w2 ⟨rfl,n2,rfl⟩
  have b3:=b1.trans (ai w.heap.size w1 n2)
  go_wp2_with (fail)
  refine (HV _).out.mono ?_
  rintro e w4 ⟨rfl,b4⟩
  go_wp2
  go_ret2
  rw [HR0.out]
  exact ⟨rfl,b3.trans (b4.mono b3.size)⟩
theorem J7 (s:ByteArray) (a:Int) (attr:Bool) (w:World) (hs:s.size≤1099511627776) (_ha: -9223372036854775808≤a∧a≤9223372036854775807):Calls Tryz.prog 154 #[.string s,.int .i64 a,.bool attr] w fun e w'=>e= .returned (.tuple #[.string ⟨(KI s.data.toList a attr).toArray⟩,.int .i64 (KJ s.data.toList a)])∧Below w.heap.size w w':=by
 by_cases h:0≤a∧s.data.toList.getD a.toNat 0=38
 ·obtain ⟨h0,h38⟩:=h
  obtain ⟨k,rfl⟩:∃k:Nat,a=k:=⟨a.toNat,by omega⟩
  rw [show ((k:Nat):Int).toNat=k by omega] at h38
  obtain ⟨e1,e2⟩:=ul s.data.toList k attr h38
  rw [e1,e2]
  by_cases hr:be (s.data.toList.drop (k+1)) 0=true
  ·exact J6 s k attr w hs h38 hr
  ·rw [Bool.not_eq_true] at hr
   by_cases hb:aM ah (s.data.toList.drop (k+1))=0
   ·exact H8 s k attr w hs h38 hr hb
   ·exact Ia s k attr w hs h38 hr hb
 ·obtain ⟨e1,e2⟩:=Jl s.data.toList a attr h
  rw [e1,e2]
  clear e1 e2
  by_cases h0:a<0
  ·clear h
   go_enter Tryz.func154,Tryz.ntmps154
   go_wp2
   go_ret2
   exact ⟨rfl,Below.refl _ _⟩
  ·obtain ⟨k,rfl⟩:∃k:Nat,a=k:=⟨a.toNat,by omega⟩
   by_cases h1:k<s.size
   ·have b38:(((s[k].toNat:Nat):Int) != 38)=true:=by
     rw [bne_iff_ne]
     intro e
     refine h ⟨by omega,?_⟩
     rw [show ((k:Nat):Int).toNat=k by omega,cM s k h1]
     exact aQ _ 38 (by decide) e
    clear h
    go_enter Tryz.func154,Tryz.ntmps154
    go_wp2
    go_ret2
    exact ⟨rfl,Below.refl _ _⟩
   ·have h2:(s.size:Int)≤(k:Int):=by omega
    clear h
    go_enter Tryz.func154,Tryz.ntmps154
    go_wp2
    go_ret2
    exact ⟨rfl,Below.refl _ _⟩
end Go.Proofs.YtpmdcppnlggckaaGreatDoor
namespace Go.Proofs.YtpmdcppnlggckaaGreatDoor
open Go.RowKit Go.Lib
theorem yV (attr:Bool) (s:ByteArray) (i:Nat) (h:i<s.size) (O:ByteArray) (hc:s[i]≠38) (heq:O.data.toList++ej attr (s.data.toList.drop i)=ej attr s.data.toList):(O++s.extract i (i+1)).data.toList++ej attr (s.data.toList.drop (i+1))=ej attr s.data.toList:=by
 rw [←heq,aj s i h,mA attr _ _ hc,ByteArray.data_append,Array.toList_append,ct s i h,List.append_assoc];rfl
theorem Eq (attr:Bool) (s:ByteArray) (i:Nat) (h:i<s.size) (O:ByteArray) (hc:s[i]=38) (heq:O.data.toList++ej attr (s.data.toList.drop i)=ej attr s.data.toList):(O.data.toList++de (s.data.toList.drop (i+1)) attr)++ej attr (s.data.toList.drop (i+1+cN (s.data.toList.drop (i+1))))=ej attr s.data.toList∧i+1+cN (s.data.toList.drop (i+1))≤s.size:=by
 constructor
 ·rw [←heq,aj s i h,hc,uk,List.append_assoc,List.drop_drop]
 ·have h1:=pp (s.data.toList.drop (i+1))
  rw [List.length_drop,←Lib.size_eq] at h1
  omega
theorem iq (s : ByteArray) (attr : Bool) (w : World) (hs : s.size ≤ 1099511627776) :
    Calls Tryz.prog 116 #[.string s, .bool attr] w fun e w' => e = .returned (.string ⟨(ej attr s.data.toList).toArray⟩) ∧ Below w.heap.size w w' := by
  go_enter Tryz.func116, Tryz.ntmps116
  go_wp2
  go_loopw [5, 6] (fun o v wr => ∃ (i : Nat) (O : ByteArray), o = .string O ∧ v = .int .i64 (i : Int) ∧ Below w.heap.size w wr ∧ i ≤ s.size ∧ O.data.toList ++ ej attr (s.data.toList.drop i) = ej attr s.data.toList ∧ O.size ≤ 3 * i) (fun _ v _ => s.size - (ae v).toNat)
  case atStart => exact ⟨0, ⟨#[]⟩, rfl, rfl, Below.refl _ w, Nat.zero_le _, rfl, Nat.zero_le _⟩
  case round =>
    obtain ⟨i, O, rfl, rfl, hbw, hle, heq, hO⟩ := hrel
    by_cases hlt : i < s.size
    · by_cases h38 : s[i] = 38
      · have b38 : (((s[i].toNat : Nat) : Int) != 38) = false := mB _ 38 (by decide) h38
        obtain ⟨e1, e2⟩ := Eq attr s i hlt O h38 heq
        have hg : s.data.toList.getD i 0 = 38 := by rw [cM s i hlt]; exact h38
        obtain ⟨r1, r2⟩ := ul s.data.toList i attr hg
        have ht := (mz (s.data.toList.drop (i + 1)) attr).2
        have HR := fun w => Lib.hid (J7 s (i : Int) attr w hs (by omega))
        rw [r1, r2, show (i : Int) + 1 + (cN (s.data.toList.drop (i + 1)) : Int) = ((i + 1 + cN (s.data.toList.drop (i + 1)) : Nat) : Int) by omega] at HR
        obtain ⟨M, hM⟩ : ∃ M, i + 1 + cN (s.data.toList.drop (i + 1)) = M := ⟨_, rfl⟩
        rw [hM] at HR e1 e2
        obtain ⟨X, hX⟩ : ∃ X : ByteArray, ⟨(de (s.data.toList.drop (i + 1)) attr).toArray⟩ = X := ⟨_, rfl⟩
        have hXl : X.data.toList = de (s.data.toList.drop (i + 1)) attr := by rw [← hX, List.toList_toArray]
        have hXn : X.size = (de (s.data.toList.drop (i + 1)) attr).length := by rw [Lib.size_eq, hXl]
        have hXs : O.size + X.size ≤ 3 * M := by omega
        have hM1 : i < M := by omega
        have hov : ¬ 9223372036854775807 < O.size + X.size := by omega
        have HE := Lib.hid (show (O ++ X).data.toList ++ ej attr (s.data.toList.drop M) = ej attr s.data.toList by
          rw [ByteArray.data_append, Array.toList_append, hXl]; exact e1)
        rw [hX] at HR
        clear hX hXl hXn ht e1 heq h38 hg r1 r2 hM
        go_wp2_with (fail)
        refine (HR _).out.mono ?_
        rintro e w1 ⟨rfl, b1⟩
        have B1 := hbw.trans (b1.mono hbw.size)
        go_wp2
        go_roundw
        case rel => exact ⟨M, _, rfl, rfl, B1, e2, HE.out, by rw [ByteArray.size_append]; omega⟩
        case measure => simp [ae]; omega
      · have b38 : (((s[i].toNat : Nat) : Int) != 38) = true := by
          rw [bne_iff_ne]; exact fun h => h38 (aQ _ 38 (by decide) h)
        have HE := Lib.hid (yV attr s i hlt O h38 heq)
        clear heq h38
        go_wp2
        go_roundw
        case rel => exact ⟨i + 1, _, rfl, rfl, hbw, by omega, HE.out, by simp; omega⟩
        case measure => simp [ae]; omega
    · have HE := Lib.hid heq
      clear heq
      go_wp2
      go_ret
      refine ⟨aY ?_, hbw⟩
      have := HE.out
      rw [List.drop_eq_nil_of_le (by rw [← Lib.size_eq]; omega), yT, List.append_nil] at this
      rw [← this]
end Go.Proofs.YtpmdcppnlggckaaGreatDoor
namespace Go.Proofs.YtpmdcppnlggckaaGreatDoor
open Go.RowKit Go.Lib
theorem AA:∀l:ab,∃p rest,l=p++rest∧38∉p∧(rest=[]∨∃z,rest=38::z)
 |[]=>⟨[],[],rfl,by simp,.inl rfl⟩
 |c::l=>by
  by_cases h:c=38
  ·subst h;exact ⟨[],38::l,rfl,by simp,.inr ⟨l,rfl⟩⟩
  ·obtain ⟨p,rest,h1,h2,h3⟩:=AA l
   refine ⟨c::p,rest,by rw [h1];rfl,?_,h3⟩
   rw [List.mem_cons,not_or]
   exact ⟨fun e=>h e.symm,h2⟩
theorem Er (attr:Bool) (l p acc:ab) (i:Nat) (hp:l.drop i=p) (h38:38∉p) (heq:acc++ej attr (l.drop i)=ej attr l):acc++p=ej attr l:=by
 rw [hp,Eo attr p h38] at heq;exact heq
theorem Es (attr:Bool) (l p z acc:ab) (i:Nat) (hp:l.drop i=p++38::z) (h38:38∉p) (heq:acc++ej attr (l.drop i)=ej attr l):l.getD (i+p.length) 0=38∧l.drop (i+p.length+1)=z∧i+p.length+1+z.length=l.length∧(acc++p++de z attr)++ej attr (l.drop (i+p.length+1+cN z))=ej attr l:=by
 have h1:l.drop (i+p.length)=38::z:=by rw [←List.drop_drop,hp,List.drop_left]
 have h2:l.drop (i+p.length+1)=z:=by rw [←List.drop_drop,h1];rfl
 have h3:i+p.length<l.length:=by
  refine Nat.lt_of_not_le fun h=>?_
  rw [List.drop_eq_nil_of_le h] at h1
  exact absurd h1.symm (List.cons_ne_nil _ _)
 refine ⟨?_,h2,?_,?_⟩
 ·rw [List.getD_eq_getElem?_getD,←Nat.add_zero (i+p.length),←List.getElem?_drop,h1];rfl
 ·have:=congrArg List.length h1
  rw [List.length_drop,List.length_cons] at this
  omega
 ·rw [←List.drop_drop,h2,←heq,hp,qn attr _ p h38,uk]
  simp only [List.append_assoc]
theorem lR (s:ByteArray) (attr:Bool) (w:World) (hs:s.size≤1099511627776) (hT:gN w) (hE:mr w):Calls Tryz.prog 136 #[.string s,.bool attr] w fun e w'=>e= .returned (.string ⟨(ej attr s.data.toList).toArray⟩)∧Below w.heap.size w w':=by
 have HT:=Lib.hid hT
 have HE:=Lib.hid hE
 clear hT hE
 go_enter Tryz.func136,Tryz.ntmps136
 go_wp2
 refine cB 0 (fun a' wr=>∃(at_:Nat) (acc:List UInt8) (u2 u3 u7 u8 u9 u10 u11 u12 u13 u14 u15 u16 u17 u18 u19 u20 u21 u22 u23 u24 u25 u26 u27 u28 u29 u30 u31 u32 u33 u34 u35 u36 u37 u38 u39 u40:Value),a'={tmps:=#[.string s,.bool attr,u2,u3,.string ⟨#[]⟩,.pointer (some ⟨w.heap.size,0,none⟩),.int .i64 (at_:Int),u7,u8,u9,u10,u11,u12,u13,u14,u15,u16,u17,u18,u19,u20,u21,u22,u23,u24,u25,u26,u27,u28,u29,u30,u31,u32,u33,u34,u35,u36,u37,u38,u39,u40],defers:=[]}∧Lib.IsBuilderF 72 5 w.heap.size w.heap.size (Lib.byteCells acc) wr∧Below w.heap.size w wr∧at_≤s.size∧acc++ej attr (s.data.toList.drop at_)=ej attr s.data.toList∧acc.length≤3*at_) (fun a' _=>s.size-(ae (a'.tmps.getD 6 undef)).toNat) rfl ?_ ?_
 ·rintro a' wr ⟨at_,acc,u2,u3,u7,u8,u9,u10,u11,u12,u13,u14,u15,u16,u17,u18,u19,u20,u21,u22,u23,u24,u25,u26,u27,u28,u29,u30,u31,u32,u33,u34,u35,u36,u37,u38,u39,u40,rfl,hI,hbw,hle,heq,hacc⟩
  have hsz:=hbw.size
  obtain ⟨p,rest,hp,h38,hrest⟩:=AA (s.data.toList.drop at_)
  have hxs:(s.extract at_ s.size).size≤1099511627776:=by rw [ByteArray.size_extract];omega
  have HC:=fun w=>Lib.hid (kL (s.extract at_ s.size) 38 p rest w hxs (by rw [extract_data,List.take_of_length_le (by rw [List.length_drop,←Lib.size_eq];omega)];exact hp) h38 hrest)
  unfold rD at HC
  obtain ⟨L,hL⟩:∃L:ByteArray,⟨p.toArray⟩=L:=⟨_,rfl⟩
  have hLl:L.data.toList=p:=by rw [←hL,List.toList_toArray]
  have hLs:L.size=p.length:=by rw [Lib.size_eq,hLl]
  have hlen:at_+p.length+rest.length=s.size:=by
   have:=congrArg List.length hp
   rw [List.length_drop,←Lib.size_eq,List.length_append] at this
   omega
  rw [hL] at HC
  rcases hrest with rfl|⟨z,rfl⟩
  ·have HE2:=Lib.hid (Er attr s.data.toList p acc at_ (by rw [hp,List.append_nil]) h38 heq)
   have hLb:at_+L.size≤s.size:=by omega
   have HLc:=Lib.hid (show Lib.strCells L=Lib.byteCells p by rw [←hLl];rfl)
   clear heq hp h38 hL hLl hLs hlen hxs
   go_wp2_with (fail)
   refine (HC _).out.mono ?_
   rintro e w1 ⟨rfl,n1,rfl⟩
   have hI1:=Lib.IsBuilderF.below hI (ai _ wr n1)
   go_wp2_with (fail)
   refine (eK w.heap.size w.heap.size _ L _ hI1 (by rw [byteCells_length];omega) hsz).mono ?_
   rintro e w2 ⟨rfl,h1,b1,-⟩
   rw [HLc.out,←byteCells_append] at h1
   go_wp2_with (fail)
   refine (Tryz.Builder_String_any_k w.heap.size w.heap.size (acc++p) _ (.inr h1) (Nat.le_trans (show w.heap.size≤(wr.drewN n1).heap.size from hsz) b1.size)).mono ?_
   rintro e w3 ⟨rfl,_,b2,_⟩
   go_wp2
   simp only [Exit.jump]
   go_ret
   refine ⟨aY (by rw [HE2.out]),((hbw.trans (ai _ wr n1)).trans b1).trans b2⟩
  ·obtain ⟨k1,k2,k3,k4⟩:=Es attr s.data.toList p z acc at_ hp h38 heq
   have hm:=pp z
   have ht:=(mz z attr).2
   rw [←Lib.size_eq] at k3
   have HR:=fun w h1 h2=>Lib.hid (J5 s ((at_+p.length:Nat):Int) attr w hs (by omega) h1 h2)
   obtain ⟨r1,r2⟩:=ul s.data.toList (at_+p.length) attr k1
   rw [r1,r2,k2,show ((at_+p.length:Nat):Int)+1+(cN z:Int)=((at_+p.length+1+cN z:Nat):Int) by omega,show ((at_+p.length:Nat):Int)=(at_:Int)+(L.size:Int) by omega] at HR
   obtain ⟨M,hM⟩:∃M,at_+p.length+1+cN z=M:=⟨_,rfl⟩
   rw [hM] at HR k4
   have hM1:at_<M:=by omega
   have hM2:M≤s.size:=by omega
   have hM3:acc.length+p.length+(de z attr).length≤3*M:=by omega
   have hLb:at_+L.size≤s.size:=by omega
   obtain ⟨X,hX⟩:∃X:ByteArray,⟨(de z attr).toArray⟩=X:=⟨_,rfl⟩
   have hXl:X.data.toList=de z attr:=by rw [←hX,List.toList_toArray]
   have hXn:X.size=(de z attr).length:=by rw [Lib.size_eq,hXl]
   have hXs:acc.length+L.size+X.size≤3*M:=by omega
   have HXn:=Lib.hid hXn
   have HXc:=Lib.hid (show Lib.strCells X=Lib.byteCells (de z attr) by rw [←hX];rfl)
   have HLc:=Lib.hid (show Lib.strCells L=Lib.byteCells p by rw [←hLl];rfl)
   have HK:=Lib.hid k4
   have HLs:=Lib.hid hLs
   rw [hX] at HR
   clear hX hXl hXn hM heq hp h38 hL hLl hLs hlen hxs k1 k2 k3 k4 r1 r2 ht hm
   go_wp2_with (fail)
   refine (HC _).out.mono ?_
   rintro e w1 ⟨rfl,n1,rfl⟩
   have hI1:=Lib.IsBuilderF.below hI (ai _ wr n1)
   go_wp2_with (fail)
   refine (eK w.heap.size w.heap.size _ L _ hI1 (by rw [byteCells_length];omega) hsz).mono ?_
   rintro e w2 ⟨rfl,h1,b1,-⟩
   rw [HLc.out,←byteCells_append] at h1
   have B2:=(hbw.trans (ai w.heap.size wr n1)).trans b1
   have hs2:w.heap.size≤w2.heap.size:=B2.size
   go_wp2_with (fail)
   refine (HR _ (HT.out.below B2) (HE.out.below B2)).out.mono ?_
   rintro e w3 ⟨rfl,b3⟩
   have B3:=B2.trans (b3.mono hs2)
   have h3:=Lib.IsBuilderF.below (.inr h1) b3
   go_wp2_with (fail)
   refine (eK w.heap.size w.heap.size _ X _ h3 (by rw [byteCells_length,List.length_append,←HLs.out];omega) B3.size).mono ?_
   rintro e w4 ⟨rfl,h4,b4,-⟩
   rw [HXc.out,←byteCells_append] at h4
   go_wp2
   go_step3
   refine ⟨rfl,⟨M,acc++p++de z attr,_,_,_,_,_,_,_,_,_,_,_,_,_,_,_,_,_,_,_,_,_,_,_,_,_,_,_,_,_,_,_,_,_,_,_,_,rfl,.inr h4,B3.trans b4,hM2,HK.out,by rw [List.length_append,List.length_append];exact hM3⟩,?_⟩
   simp [ae];omega
 ·intro hpass
  go_wp2_with (fail)
  refine (Tryz.Builder_Grow_fresh w.heap.size w.heap.size s.size _ (Nat.le_refl _) (heap_alloc_new w _) (by simp) (by omega)).mono ?_
  rintro e w2 ⟨rfl,hB0,hbel0⟩
  have hI0:Lib.IsBuilderF 72 5 w.heap.size w.heap.size [] w2:=Lib.IsBuilderF.of (.inr hB0)
  go_wp2
  go_step3
  rename_i K hK
  refine hK _ _ (hpass _ _ ?_)
  exact ⟨0,[],_,_,_,_,_,_,_,_,_,_,_,_,_,_,_,_,_,_,_,_,_,_,_,_,_,_,_,_,_,_,_,_,_,_,_,_,rfl,hI0,((Below.refl _ w).alloc (Nat.le_refl _) _).trans hbel0,Nat.zero_le _,rfl,Nat.zero_le _⟩
end Go.Proofs.YtpmdcppnlggckaaGreatDoor
namespace Go.Proofs.YtpmdcppnlggckaaGreatDoor
open Go.ChangeShapes Go.WideShapes Go.ChangeAt Go.RowKit
theorem KX:Tryz.prog.globalNamed "strconv.ErrSyntax" =some 2:=by kernel_rfl
theorem Et : (Tryz.prog.globals[2]?).map (·.type) = some 75 := by kernel_rfl
theorem BR:Tryz.prog.cellsOf 203=1:=by kernel_rfl
theorem Eu:Tryz.prog.cellsOf 9=1:=by kernel_rfl
theorem AB: "*" ++ "errors.errorString" = "*errors.errorString" :=by decide
theorem J8 (u:TypeId) (h:Tryz.prog.typeName? 3 u=some "*errors.errorString"):u=201:=
 typeName_ptr_named (nm:= "errors.errorString") (by rw [AB];kernel_rfl) (by kernel_rfl) (by decide) u (by rw [AB];exact h)
theorem KY:Tryz.prog.globalNamed "flail/number.others" =some 1:=by kernel_rfl
theorem Ev : (Tryz.prog.globals[1]?).map (·.type) = some 185 := by kernel_rfl
theorem Ew:Tryz.prog.cellsOf 185=32:=by kernel_rfl
theorem Ey:Tryz.prog.cellsOf 3=1:=by kernel_rfl
structure cc (w:World):Prop where
 tab:gN w
 err:mr w
 max:oE w
theorem cc.below {w w':World} (h:cc w) (hb:Below w.heap.size w w'):cc w':=⟨h.tab.below hb,h.err.below hb,h.max.below hb⟩
theorem Ez {W:World} (h:laidMetH Tryz.prog Rows.extractTellsRow.laid W) (hsh:W.ShapedOpen Tryz.prog):cc W:=by
 have h':laidMet Tryz.prog Rows.extractTellsRow.laid W:=h
 obtain ⟨ps,⟨g0,t0,cs0,f0,p0,q0,hg0,ht0,hv0,hd0,⟨g1,t1,cs1,f1,p1,q1,hg1,ht1,hv1,hd1,⟨g2,t2,cs2,f2,p2,q2,hg2,ht2,hv2,hd2,⟨g3,t3,cs3,f3,p3,q3,hg3,ht3,hv3,hd3,⟨g4,t4,cs4,f4,p4,q4,hg4,ht4,hv4,hd4,⟨g5,t5,cs5,f5,p5,q5,hg5,ht5,hv5,hd5,hq5,e5⟩,e4⟩,e3⟩,e2⟩,e1⟩,e0⟩,hnd,hrows⟩:=h'
 obtain rfl:=Option.some.inj (KX.symm.trans hg4)
 obtain rfl:=Option.some.inj (Et.symm.trans ht4)
 obtain rfl:=Option.some.inj (KY.symm.trans hg5)
 obtain rfl:=Option.some.inj (Ev.symm.trans ht5)
 have hT:Lib.TabIs Tryz.prog W "flail/number.others" .i64 o3:=by
  have:=Lib.cells_of_tab (zs:=o3) (k:= .i64) Tryz.underlying185 Tryz.underlying3 Ey Ew hd5
  unfold Lib.TabIs
  rw [hv5,←this]
 obtain ⟨l4⟩:=cs4
 have ok4:∀u v,l4=[.iface u v]→Value.okWide Tryz.prog W .any 0 u v:=fun u v e=>by
  subst e
  subst e5;subst e4;subst e3;subst e2;subst e1;subst e0
  exact (hrows 2 0 (by simp [MemPlace.row])).2 u v (by simpa using World.var?_cell hg4 hv4 0)
 obtain ⟨a4,s4,rfl,-⟩:=errorString_of_trod Tryz.underlying75 J8 Tryz.underlying201 Tryz.underlying203 rfl rfl Tryz.underlying9 BR Eu hd4 ok4
 have hc:W.cell? ⟨2,0,none⟩=some (.iface 201 (.pointer (some a4))):=by simpa using World.var?_cell KX hv4 0
 have hc5:∀i,i<32→W.cell? ⟨1,i,none⟩=some (.int .i64 (o3.getD i 0)):=fun i hi=>hT.cell KY i hi
 refine ⟨⟨?_,hc5⟩,⟨?_,_,_,hc⟩,El hsh⟩
 ·rcases Nat.lt_or_ge 1 W.heap.size with h'|h'
  ·omega
  ·have:=hc5 0 (by decide)
   simp [World.cell?,Array.getElem?_eq_none h'] at this
 ·rcases Nat.lt_or_ge 2 W.heap.size with h'|h'
  ·exact h'
  ·simp [World.cell?,Array.getElem?_eq_none h'] at hc
noncomputable def nM (os:Os):World:=World.doorLaid Tryz.prog 67 os
end Go.Proofs.YtpmdcppnlggckaaGreatDoor
