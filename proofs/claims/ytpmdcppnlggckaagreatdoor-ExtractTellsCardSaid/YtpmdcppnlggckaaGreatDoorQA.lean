/-
  Texts laid together: TagMath, TagSim, TagTok, ComMath, ComLaws, ComTold, Scan, DtMath, DtLaws, TxtMath, RawMath, RawText, ScrMath.
-/
import Derived.Test.YtpmdcppnlggckaaGreatDoorP7
import Derived.Test.YtpmdcppnlggckaaGreatDoorPT
import Derived.Test.YtpmdcppnlggckaaGreatDoorP1
import Derived.Test.YtpmdcppnlggckaaGreatDoorP4
import Derived.Test.YtpmdcppnlggckaaGreatDoorP6
import Derived.Test.YtpmdcppnlggckaaGreatDoorP3
namespace Go.Proofs.YtpmdcppnlggckaaGreatDoor
open Go.RowKit Go.Lib
def dm (c:UInt8):Bool:= !(cd c||c==47||c==62)
def eT (c:UInt8):Bool:=bz (c.toNat:Int)
def aS (l:ab):Nat:=
 if l.head?=some 60 then
  (if (l.drop 1).head?=some 47 then (if (l.drop 2).head?.any eT=true then 2 else 0) else (if (l.drop 1).head?.any eT=true then 1 else 0))
 else 0
def ux (k:Nat) (nm:ab) (l:List Ln) (self:Bool):am:=if k=1 then ⟨1,aL nm,[],l,self⟩ else ⟨2,aL nm,[],[],false⟩
def jC (l:ab):ab:=(l.drop (aS l)).takeWhile dm
noncomputable def gQ (l:ab):Option (am × Nat):=
 (eo (.s0 []) (l.drop (aS l+(jC l).length))).map fun r=>(ux (aS l) (jC l) r.1 r.2.1,aS l+(jC l).length+r.2.2)
def fM (s:ab) (a:Int):Bool:=decide (0≤a∧aS (s.drop a.toNat)≠0)
noncomputable def nW (s:ab) (a:Int):am × Int × Bool:=
 if 0≤a∧aS (s.drop a.toNat)≠0 then match gQ (s.drop a.toNat) with
  |none=>(aG,(s.length:Int),false)
  |some (t,n)=>(t,a+(n:Int),true)
 else (aG,a,false)
theorem mK (s:ab) (a:Int) (h:¬(0≤a∧aS (s.drop a.toNat)≠0)):nW s a=(aG,a,false)∧fM s a=false:=⟨if_neg h,decide_eq_false h⟩
theorem qr (s:ab) (k:Nat) (hb:aS (s.drop k)≠0) (h:gQ (s.drop k)=none):nW s (k:Int)=(aG,(s.length:Int),false):=by
 unfold nW
 rw [show ((k:Nat):Int).toNat=k by omega,if_pos ⟨by omega,hb⟩,h]
theorem qs (s:ab) (k:Nat) (hb:aS (s.drop k)≠0) (t:am) (n:Nat) (h:gQ (s.drop k)=some (t,n)):nW s (k:Int)=(t,((k+n:Nat):Int),true):=by
 unfold nW
 rw [show ((k:Nat):Int).toNat=k by omega,if_pos ⟨by omega,hb⟩,h]
 simp only [Int.natCast_add]
theorem EF (s:ab) (k:Nat):fM s (k:Int)=decide (aS (s.drop k)≠0):=by
 unfold fM
 rw [show ((k:Nat):Int).toNat=k by omega]
 simp
theorem AH:aS []=0:=by decide
theorem kR (l:ab) (h:aS l≠0):∃c t,eT c=true∧((l=60::c::t∧aS l=1∧c≠47)∨(l=60::47::c::t∧aS l=2)):=by
 unfold aS at h⊢
 by_cases h60:l.head?=some 60
 ·rw [if_pos h60] at h
  simp only [if_pos h60]
  cases l with
  |nil=>simp at h60
  |cons d r=>
   simp only [List.head?_cons,Option.some.injEq] at h60
   subst h60
   simp only [List.drop_succ_cons,List.drop_zero] at h⊢
   by_cases h47:r.head?=some 47
   ·rw [if_pos h47] at h
    simp only [if_pos h47]
    cases r with
    |nil=>simp at h47
    |cons e z=>
     simp only [List.head?_cons,Option.some.injEq] at h47
     subst h47
     simp only [List.drop_succ_cons,List.drop_zero] at h⊢
     cases z with
     |nil=>simp at h
     |cons c t=>
      simp only [List.head?_cons,Option.any_some] at h⊢
      by_cases hc:eT c=true
      ·exact ⟨c,t,hc,.inr ⟨rfl,by simp [hc]⟩⟩
      ·simp [hc] at h
   ·rw [if_neg h47] at h
    simp only [if_neg h47]
    cases r with
    |nil=>simp at h
    |cons c t=>
     simp only [List.head?_cons,Option.any_some] at h⊢
     by_cases hc:eT c=true
     ·exact ⟨c,t,hc,.inl ⟨rfl,by simp [hc],fun e=>h47 (by rw [e];rfl)⟩⟩
     ·simp [hc] at h
 ·rw [if_neg h60] at h;exact absurd rfl h
theorem BY:∀n,n<256→eT (UInt8.ofNat n)=true→dm (UInt8.ofNat n)=true∧(97≤(ca (UInt8.ofNat n)).toNat∧(ca (UInt8.ofNat n)).toNat≤122):=by decide+kernel
theorem BZ:∀n,n<256→cd (ca (UInt8.ofNat n))=cd (UInt8.ofNat n)∧eT (ca (UInt8.ofNat n))=eT (UInt8.ofNat n)∧dm (ca (UInt8.ofNat n))=dm (UInt8.ofNat n)∧(ca (UInt8.ofNat n)=62↔UInt8.ofNat n=62)∧(ca (UInt8.ofNat n)=47↔UInt8.ofNat n=47)∧(ca (UInt8.ofNat n)=61↔UInt8.ofNat n=61)∧(ca (UInt8.ofNat n)=34↔UInt8.ofNat n=34)∧(ca (UInt8.ofNat n)=39↔UInt8.ofNat n=39)∧(ca (UInt8.ofNat n)=60↔UInt8.ofNat n=60):=by decide+kernel
theorem wL (c:UInt8):UInt8.ofNat c.toNat=c:=by
 rw [←UInt8.toNat_inj,UInt8.toNat_ofNat'];exact Nat.mod_eq_of_lt c.toNat_lt
theorem EG (c:UInt8) (h:eT c=true):dm c=true∧97≤(ca c).toNat∧(ca c).toNat≤122:=by
 have:=BY c.toNat c.toNat_lt
 rw [wL] at this
 exact this h
theorem kT (c:UInt8):cd (ca c)=cd c∧eT (ca c)=eT c∧dm (ca c)=dm c∧(ca c=62↔c=62)∧(ca c=47↔c=47)∧(ca c=61↔c=61)∧(ca c=34↔c=34)∧(ca c=39↔c=39)∧(ca c=60↔c=60):=by
 have:=BZ c.toNat c.toNat_lt
 rwa [wL] at this
theorem EI (l:ab) (h:aS l≠0):∃c t,jC l=c::t∧eT c=true:=by
 obtain ⟨c,t,hc,⟨rfl,hk,-⟩|⟨rfl,hk⟩⟩:=kR l h
 ·refine ⟨c,t.takeWhile dm,?_,hc⟩
  unfold jC
  rw [hk,List.drop_succ_cons,List.drop_zero,List.takeWhile_cons,if_pos (EG c hc).1]
 ·refine ⟨c,t.takeWhile dm,?_,hc⟩
  unfold jC
  rw [hk,List.drop_succ_cons,List.drop_succ_cons,List.drop_zero,List.takeWhile_cons,if_pos (EG c hc).1]
theorem EJ (l:ab):l.drop (aS l)=jC l++l.drop (aS l+(jC l).length):=by
 unfold jC
 rw [←List.drop_drop]
 conv=>rhs;arg 2;arg 2;rw [←List.takeWhile_append_dropWhile (p:=dm) (l:=l.drop (aS l))]
 rw [List.drop_left,List.takeWhile_append_dropWhile]
theorem yZ (l:ab) (h:aS l≠0):aS l+(jC l).length≤l.length∧1≤(jC l).length:=by
 obtain ⟨c,t,h1,-⟩:=EI l h
 have h2:=congrArg List.length (EJ l)
 rw [List.length_drop,List.length_append,List.length_drop] at h2
 have h3:1≤(jC l).length:=by rw [h1];simp
 omega
theorem ep (l:ab) (t:am) (n:Nat) (hr:gQ l=some (t,n)):aS l+(jC l).length+1≤n∧n≤l.length∧l.getD (n-1) 0=62∧∃al self,t=ux (aS l) (jC l) al self∧eo (.s0 []) (l.drop (aS l+(jC l).length))=some (al,self,n-(aS l+(jC l).length)):=by
 unfold gQ at hr
 cases hx:eo (.s0 []) (l.drop (aS l+(jC l).length)) with
 |none=>rw [hx] at hr;simp at hr
 |some r=>
  obtain ⟨al,self,m⟩:=r
  rw [hx] at hr
  simp only [Option.map_some,Option.some.injEq,Prod.mk.injEq] at hr
  obtain ⟨rfl,rfl⟩:=hr
  obtain ⟨e1,e2,e3,-⟩:=wJ _ _ _ _ _ hx
  rw [List.length_drop] at e2
  refine ⟨by omega,by omega,?_,al,self,rfl,by rw [Nat.add_sub_cancel_left]⟩
  rw [List.getD_eq_getElem?_getD,List.getElem?_drop] at e3
  rw [List.getD_eq_getElem?_getD,show aS l+(jC l).length+m-1=aS l+(jC l).length+(m-1) by omega]
  exact e3
end Go.Proofs.YtpmdcppnlggckaaGreatDoor
namespace Go.Proofs.YtpmdcppnlggckaaGreatDoor
open Go.RowKit Go.Lib
end Go.Proofs.YtpmdcppnlggckaaGreatDoor
namespace Go.Proofs.YtpmdcppnlggckaaGreatDoor
open Go.RowKit Go.Lib
end Go.Proofs.YtpmdcppnlggckaaGreatDoor
namespace Go.Proofs.YtpmdcppnlggckaaGreatDoor
open Go.RowKit Go.Lib
def vy:ab:=[100,111,99,116,121,112,101]
def fq:ab→Bool
 |60::33::t=> !(vy.isPrefixOf (aD t))
 |60::63::_=>true
 |60::47::c::_=> !(c==62)&& !(bz (c.toNat:Int))
 |_=>false
def bL:ab→Option (ab × Nat)
 |[]=>none
 |c::t=>if [45,45,62].isPrefixOf (c::t)=true then some ([],3) else if [45,45,33,62].isPrefixOf (c::t)=true then some ([],4) else (bL t).map fun r=>(c::r.1,r.2+1)
def gh (l:ab):ab:=
 if [45,45,33].isSuffixOf l=true then l.take (l.length-3) else if [45,45].isSuffixOf l=true then l.take (l.length-2) else if [45].isSuffixOf l=true then l.take (l.length-1) else l
def aT (l:ab):ab × Nat:=
 if [62].isPrefixOf l=true then ([],1) else if [45,62].isPrefixOf l=true then ([],2) else match bL l with
  |some r=>r
  |none=>(gh l,l.length)
def dM (l : ab) : ab × Nat := (l.takeWhile (· != 62), l.length - ((l.dropWhile (· != 62)).tail).length)
def fb (l:ab):ab × Nat:=
 if [60,33,45,45].isPrefixOf l=true then ((aT (l.drop 4)).1,(aT (l.drop 4)).2+4)
 else if (l.drop 1).head?=some 63 then ((dM (l.drop 1)).1,(dM (l.drop 1)).2+1) else ((dM (l.drop 2)).1,(dM (l.drop 2)).2+2)
def gZ (x:ab):am:=⟨3,[],ap x,[],false⟩
def dJ (s:ab) (a:Int):Bool:=decide (0≤a)&&fq (s.drop a.toNat)
def jV (s:ab) (a:Int):am × Int × Bool:=
 if dJ s a=true then (gZ (fb (s.drop a.toNat)).1,a+((fb (s.drop a.toNat)).2:Int),true) else (aG,a,false)
theorem EK (s:ab) (a:Int) (h:dJ s a=false):jV s a=(aG,a,false):=by
 unfold jV;rw [h];rfl
theorem kU (s:ab) (k:Nat):dJ s (k:Int)=fq (s.drop k):=by
 unfold dJ
 rw [show ((k:Nat):Int).toNat=k by omega,decide_eq_true (by omega),Bool.true_and]
theorem y4 (s:ab) (k:Nat) (h:fq (s.drop k)=true):jV s (k:Int)=(gZ (fb (s.drop k)).1,((k+(fb (s.drop k)).2:Nat):Int),true):=by
 unfold jV
 rw [kU,h,if_pos rfl,show ((k:Nat):Int).toNat=k by omega,Int.natCast_add]
theorem nX (c:UInt8) (t:ab) (h1:[45,45,62].isPrefixOf (c::t)=false) (h2:[45,45,33,62].isPrefixOf (c::t)=false):bL (c::t)=(bL t).map fun r=>(c::r.1,r.2+1):=by
 rw [bL,h1,h2];rfl
theorem B0 (t:ab):bL (45::45::62::t)=some ([],3):=by
 rw [bL,if_pos (by simp [List.isPrefixOf])]
theorem B9 (t:ab):bL (45::45::33::62::t)=some ([],4):=by
 rw [bL,if_neg (by simp [List.isPrefixOf]),if_pos (by simp [List.isPrefixOf])]
def Lb (l:List UInt8):Prop:=∀i:Nat,l[i]? =some 45→l[i+1]?≠some 45
theorem iN:∀(l x:ab) (n:Nat),bL l=some (x,n)→3≤n∧n≤l.length∧x.length≤n∧l.getD (n-1) 0=62
 |[],x,n,h=>by cases h
 |c::t,x,n,h=>by
  rw [bL] at h
  by_cases h1:[45,45,62].isPrefixOf (c::t)=true
  ·rw [if_pos h1] at h
   simp only [Option.some.injEq,Prod.mk.injEq] at h
   obtain ⟨rfl,rfl⟩:=h
   match t,h1 with
   |[],h1=>simp [List.isPrefixOf] at h1
   |[d],h1=>simp [List.isPrefixOf] at h1
   |d::e::r,h1=>
    simp [List.isPrefixOf] at h1
    refine ⟨by decide,by simp,by simp,?_⟩
    rw [←h1.2.2];rfl
  ·rw [if_neg h1] at h
   by_cases h2:[45,45,33,62].isPrefixOf (c::t)=true
   ·rw [if_pos h2] at h
    simp only [Option.some.injEq,Prod.mk.injEq] at h
    obtain ⟨rfl,rfl⟩:=h
    match t,h2 with
    |[],h2=>simp [List.isPrefixOf] at h2
    |[d],h2=>simp [List.isPrefixOf] at h2
    |[d,e],h2=>simp [List.isPrefixOf] at h2
    |d::e::f::r,h2=>
     simp [List.isPrefixOf] at h2
     refine ⟨by decide,by simp,by simp,?_⟩
     rw [←h2.2.2.2];rfl
   ·rw [if_neg h2] at h
    cases hr:bL t with
    |none=>rw [hr] at h;cases h
    |some y=>
     obtain ⟨y,m⟩:=y
     rw [hr] at h
     simp only [Option.map_some,Option.some.injEq,Prod.mk.injEq] at h
     obtain ⟨rfl,rfl⟩:=h
     obtain ⟨e1,e2,e3,e4⟩:=iN t y m hr
     refine ⟨by omega,by simp;omega,by simp;omega,?_⟩
     rw [show m+1-1=(m-1)+1 by omega,List.getD_cons_succ];exact e4
end Go.Proofs.YtpmdcppnlggckaaGreatDoor
namespace Go.Proofs.YtpmdcppnlggckaaGreatDoor
open Go.RowKit Go.Lib
structure LP (l:ab):Prop where
 two:Lb l
 last:l.getLast?≠some 45
 first:l.head?≠some 45∧l.head?≠some 62
theorem wM (l r : ab) (h : 62 ∉ l) : dM (l ++ 62 :: r) = (l, l.length + 1) := by
  have h1 : ∀ x ∈ l, (x != 62) = true := fun x hx => by
    rw [bne_iff_ne]; rintro rfl; exact h hx
  have e1 : (l ++ 62 :: r).takeWhile (· != 62) = l := by
    rw [List.takeWhile_append_of_pos h1]; simp
  have e2 : (l ++ 62 :: r).dropWhile (· != 62) = 62 :: r := by
    rw [List.dropWhile_append_of_pos h1]; simp
  unfold dM
  rw [e1, e2, List.tail_cons, List.length_append, List.length_cons]
  congr 1
  omega
theorem EL (l : ab) (h : 62 ∉ l) : dM l = (l, l.length) := by
  have h1 : ∀ x ∈ l, (x != 62) = true := fun x hx => by
    rw [bne_iff_ne]; rintro rfl; exact h hx
  have e1 : l.takeWhile (· != 62) = l := by
    have := List.takeWhile_append_of_pos (l₂ := []) h1
    rw [List.append_nil] at this
    rw [this]; simp
  have e2 : l.dropWhile (· != 62) = [] := by
    have := List.dropWhile_append_of_pos (l₂ := []) h1
    rw [List.append_nil] at this
    rw [this]; rfl
  unfold dM
  rw [e1, e2]; rfl
theorem qt (c:UInt8):∀l:ab,c∈l→∃p r,l=p++c::r∧c∉p
 |d::l,h=>by
  by_cases hd:d=c
  ·exact ⟨[],l,by rw [hd];rfl,by simp⟩
  ·obtain ⟨p,r,e,hp⟩:=qt c l ((List.mem_cons.1 h).resolve_left fun e=>hd e.symm)
   refine ⟨d::p,r,by rw [e];rfl,?_⟩
   rw [List.mem_cons,not_or]
   exact ⟨fun e=>hd e.symm,hp⟩
theorem pw (l m:ab) (h:(dM l).2≠l.length):(dM l).2<l.length∧1≤(dM l).2∧l.getD ((dM l).2-1) 0=62∧dM (l.take (dM l).2++m)=dM l:=by
 by_cases hm:62∈l
 ·obtain ⟨p,r,rfl,hp⟩:∃p r,l=p++62::r∧62∉p:=by
   exact qt 62 l hm
  rw [wM p r hp] at h⊢
  have e:(p++62::r).take (p.length+1)=p++[62]:=by
   rw [List.take_append,List.take_of_length_le (by omega)];simp
  refine ⟨?_,by simp,?_,?_⟩
  ·rw [List.length_append,List.length_cons] at h⊢;simp only at h⊢;omega
  ·simp only [Nat.add_sub_cancel]
   rw [List.getD_eq_getElem?_getD,List.getElem?_append_right (Nat.le_refl _),Nat.sub_self];rfl
  ·rw [e,List.append_assoc];exact wM p m hp
 ·rw [EL l hm] at h;exact absurd rfl h
theorem wN (m:ab):∀(l x:ab) (n:Nat),bL l=some (x,n)→bL (l.take n++m)=some (x,n)
 |[],x,n,h=>by cases h
 |c::t,x,n,h=>by
  have he:=iN (c::t) x n h
  rw [bL] at h
  by_cases h1:[45,45,62].isPrefixOf (c::t)=true
  ·rw [if_pos h1] at h
   simp only [Option.some.injEq,Prod.mk.injEq] at h
   obtain ⟨rfl,rfl⟩:=h
   obtain ⟨q,hq⟩:=List.isPrefixOf_iff_prefix.1 h1
   rw [←hq]
   exact B0 m
  ·rw [if_neg h1] at h
   by_cases h2:[45,45,33,62].isPrefixOf (c::t)=true
   ·rw [if_pos h2] at h
    simp only [Option.some.injEq,Prod.mk.injEq] at h
    obtain ⟨rfl,rfl⟩:=h
    obtain ⟨q,hq⟩:=List.isPrefixOf_iff_prefix.1 h2
    rw [←hq]
    exact B9 m
   ·rw [if_neg h2] at h
    cases hr:bL t with
    |none=>rw [hr] at h;cases h
    |some y=>
     obtain ⟨y,k⟩:=y
     rw [hr] at h
     simp only [Option.map_some,Option.some.injEq,Prod.mk.injEq] at h
     obtain ⟨rfl,rfl⟩:=h
     have hk:=iN t y k hr
     have key:∀p:ab,p.length≤4→p.isPrefixOf (c::t)=false→p.isPrefixOf (c::(t.take k++m))=false:=by
      intro p hp hf
      rw [Bool.eq_false_iff] at hf⊢
      intro e
      refine hf (List.isPrefixOf_iff_prefix.2 ?_)
      have e:=List.isPrefixOf_iff_prefix.1 e
      rw [List.prefix_iff_eq_take] at e⊢
      rw [e]
      have:(c::(t.take k++m)).take p.length=(c::t).take p.length:=by
       cases hpl:p.length with
       |zero=>rfl
       |succ j=>
        rw [List.take_succ_cons,List.take_succ_cons,List.take_append_of_le_length (by rw [List.length_take];omega),List.take_take,Nat.min_eq_left (by omega)]
      rw [this,List.length_take,Nat.min_eq_left (by
       have h3:=congrArg List.length e
       rw [List.length_take] at h3
       simp only [List.length_cons]
       have:=hk.2.1
       omega)]
     rw [List.take_succ_cons,List.cons_append,nX c _ (key _ (by decide) (Bool.eq_false_iff.2 h1)) (key _ (by decide) (Bool.eq_false_iff.2 h2)),wN m t y k hr]
     rfl
end Go.Proofs.YtpmdcppnlggckaaGreatDoor
namespace Go.Proofs.YtpmdcppnlggckaaGreatDoor
open Go.RowKit Go.Lib
theorem qu (l:ab):fb (60::33::45::45::l)=((aT l).1,(aT l).2+4):=by
 unfold fb;rw [if_pos (by simp [List.isPrefixOf])];rfl
theorem y5 (l:ab):fq (60::33::45::l)=true:=by
 show (!(vy.isPrefixOf (aD (45::l))))=true
 rw [aI]
 simp [vy,List.isPrefixOf,show ca 45=45 by decide]
theorem wO (l:ab):fb (60::63::l)=((dM (63::l)).1,(dM (63::l)).2+1):=by
 unfold fb;rw [if_neg (by simp [List.isPrefixOf])];rfl
theorem kV (c:UInt8) (l:ab) (hc:c≠63) (h:[60,33,45,45].isPrefixOf (60::c::l)=false):fb (60::c::l)=((dM l).1,(dM l).2+2):=by
 unfold fb
 rw [h,if_neg Bool.false_ne_true,if_neg (by simp [hc])];rfl
theorem sV (l m:ab) (h:(aT l).2≠l.length):(aT l).2<l.length∧1≤(aT l).2∧l.getD ((aT l).2-1) 0=62∧aT (l.take (aT l).2++m)=aT l:=by
 by_cases h1:[62].isPrefixOf l=true
 ·obtain ⟨q,rfl⟩:=List.isPrefixOf_iff_prefix.1 h1
  have e:∀z:ab,aT ([62]++z)=([],1):=fun z=>by unfold aT;rw [if_pos (by simp [List.isPrefixOf])]
  rw [e] at h⊢
  refine ⟨?_,by simp,rfl,?_⟩
  ·simp at h⊢;exact Nat.pos_of_ne_zero fun e=>h (by rw [List.length_eq_zero_iff.1 e])
  ·exact e m
 ·by_cases h2:[45,62].isPrefixOf l=true
  ·obtain ⟨q,rfl⟩:=List.isPrefixOf_iff_prefix.1 h2
   have e:∀z:ab,aT ([45,62]++z)=([],2):=fun z=>by unfold aT;rw [if_neg (by simp [List.isPrefixOf]),if_pos (by simp [List.isPrefixOf])]
   rw [e] at h⊢
   refine ⟨?_,by simp,rfl,?_⟩
   ·simp at h⊢;exact Nat.pos_of_ne_zero fun e=>h (by rw [List.length_eq_zero_iff.1 e])
   ·exact e m
  ·cases hs:bL l with
   |none=>
    have:aT l=(gh l,l.length):=by unfold aT;rw [if_neg h1,if_neg h2,hs]
    rw [this] at h;exact absurd rfl h
   |some r=>
    obtain ⟨x,n⟩:=r
    have hp:aT l=(x,n):=by unfold aT;rw [if_neg h1,if_neg h2,hs]
    rw [hp] at h⊢
    obtain ⟨e1,e2,e3,e4⟩:=iN l x n hs
    have hcut:=wN m l x n hs
    refine ⟨by simp only at h⊢;omega,by simp only;omega,e4,?_⟩
    simp only
    have key:∀p:ab,p.length≤3→¬p.isPrefixOf l=true→¬p.isPrefixOf (l.take n++m)=true:=by
     intro p hp hf e
     refine hf (List.isPrefixOf_iff_prefix.2 ?_)
     have e:=List.isPrefixOf_iff_prefix.1 e
     rw [List.prefix_iff_eq_take] at e⊢
     rw [List.take_append_of_le_length (by rw [List.length_take];omega),List.take_take,Nat.min_eq_left (by omega)] at e
     exact e
    unfold aT
    rw [if_neg (key _ (by decide) h1),if_neg (key _ (by decide) h2),hcut]
theorem y6 (l:ab):(dM l).2≤l.length∧(dM l).1.length≤l.length:=⟨Nat.sub_le _ _,(List.takeWhile_sublist _).length_le⟩
theorem AI (l:ab):(gh l).length≤l.length:=by
 unfold gh
 split
 ·rw [List.length_take];omega
 ·split
  ·rw [List.length_take];omega
  ·split
   ·rw [List.length_take];omega
   ·exact Nat.le_refl _
theorem wP (l:ab):(aT l).1.length≤l.length+1:=by
 unfold aT
 split
 ·simp
 ·split
  ·simp
  ·cases h:bL l with
   |none=>have:=AI l;simp only;omega
   |some r=>
    obtain ⟨x,n⟩:=r
    have:=iN l x n h
    simp only;omega
theorem y7 (s:ab) (h:fq s=true):(∃t,s=60::33::t∧vy.isPrefixOf (aD t)=false)∨(∃t,s=60::63::t)∨∃c t,s=60::47::c::t∧c≠62∧bz (c.toNat:Int)=false:=by
 unfold fq at h
 split at h
 ·exact .inl ⟨_,rfl,by simpa using h⟩
 ·exact .inr (.inl ⟨_,rfl⟩)
 ·refine .inr (.inr ⟨_,_,rfl,?_⟩)
  simpa using h
 ·cases h
theorem Ki (t m:ab) (k:Nat) (hk:1≤k∧k≤t.length) (h62:t.getD (k-1) 0=62) (h:vy.isPrefixOf (aD t)=false):vy.isPrefixOf (aD (t.take k++m))=false:=by
 rw [Bool.eq_false_iff] at h⊢
 intro e
 have e:=List.isPrefixOf_iff_prefix.1 e
 have hlow:(aD t)[k-1]? =some 62:=by
  unfold aD
  rw [List.getElem?_map]
  have:t[k-1]? =some 62:=by
   rw [List.getD_eq_getElem?_getD] at h62
   rw [List.getElem?_eq_getElem (by omega)] at h62⊢
   exact congrArg some h62
  rw [this];rfl
 by_cases h7:7≤k-1
 ·refine h (List.isPrefixOf_iff_prefix.2 ?_)
  rw [List.prefix_iff_eq_take] at e⊢
  rw [show vy.length=7 from rfl] at e⊢
  rw [vA,List.take_append_of_le_length (by rw [dN,List.length_take];omega)] at e
  unfold aD at e⊢
  rw [List.map_take,List.take_take,Nat.min_eq_left (by omega)] at e
  exact e
 ·obtain ⟨q,hq⟩:=e
  have h1:(aD (t.take k++m))[k-1]? =some 62:=by
   rw [vA,List.getElem?_append_left (by rw [dN,List.length_take];omega)]
   unfold aD at hlow⊢
   rw [List.map_take,List.getElem?_take_of_lt (by omega)];exact hlow
  rw [←hq,List.getElem?_append_left (by show k-1<7;omega)] at h1
  have h2:∀j,j<7→vy[j]?≠some 62:=by decide
  exact h2 (k-1) (by omega) h1
theorem Ih (q t m:ab) (k:Nat) (hq:62∉q) (hk:1≤k∧k≤t.length) (h62:t.getD (k-1) 0=62) (h:q.isPrefixOf t=false):q.isPrefixOf (t.take k++m)=false:=by
 rw [Bool.eq_false_iff] at h⊢
 intro e
 have e:=List.isPrefixOf_iff_prefix.1 e
 by_cases hl:q.length≤k
 ·refine h (List.isPrefixOf_iff_prefix.2 ?_)
  rw [List.prefix_iff_eq_take] at e⊢
  rw [List.take_append_of_le_length (by rw [List.length_take];omega),List.take_take,Nat.min_eq_left hl] at e
  exact e
 ·obtain ⟨r,hr⟩:=e
  have h1:(t.take k++m)[k-1]? =some 62:=by
   rw [List.getElem?_append_left (by rw [List.length_take];omega),List.getElem?_take_of_lt (by omega)]
   rw [List.getD_eq_getElem?_getD] at h62
   rw [List.getElem?_eq_getElem (by omega)] at h62⊢
   exact congrArg some h62
  rw [←hr,List.getElem?_append_left (by omega)] at h1
  exact hq (List.mem_of_getElem? h1)
theorem AK (l:ab):(aT l).2≤l.length:=by
 by_cases h:(aT l).2=l.length
 ·exact Nat.le_of_eq h
 ·exact Nat.le_of_lt (sV l [] h).1
theorem sW (s m:ab) (h:fq s=true):2≤(fb s).2∧(fb s).2≤s.length∧(fb s).1.length≤s.length+1∧((fb s).2≠s.length→s.getD ((fb s).2-1) 0=62∧fq (s.take (fb s).2++m)=true∧fb (s.take (fb s).2++m)=fb s):=by
 by_cases hp:[60,33,45,45].isPrefixOf s=true
 ·obtain ⟨l,rfl⟩:=List.isPrefixOf_iff_prefix.1 hp
  have e:∀z:ab,[60,33,45,45]++z=60::33::45::45::z:=fun z=>rfl
  rw [e,qu]
  have h1:=AK l
  have h2:=wP l
  refine ⟨by simp only;omega,by simp only [List.length_cons];omega,by simp only [List.length_cons];omega,fun hn=>?_⟩
  obtain ⟨c1,c2,c3,c4⟩:=sV l m (fun e=>hn (by simp only [List.length_cons];omega))
  obtain ⟨n,hn'⟩:∃n,(aT l).2=n:=⟨_,rfl⟩
  rw [hn'] at c1 c2 c3 c4⊢
  simp only
  refine ⟨?_,?_,?_⟩
  ·rw [show n+4-1=(n-1)+1+1+1+1 by omega,List.getD_cons_succ,List.getD_cons_succ,List.getD_cons_succ,List.getD_cons_succ];exact c3
  ·rw [show n+4=n+1+1+1+1 from rfl,List.take_succ_cons,List.take_succ_cons,List.take_succ_cons]
   exact y5 _
  ·rw [show n+4=n+1+1+1+1 from rfl,List.take_succ_cons,List.take_succ_cons,List.take_succ_cons,List.take_succ_cons]
   rw [List.cons_append,List.cons_append,List.cons_append,List.cons_append,qu,c4,hn']
 ·have hp:[60,33,45,45].isPrefixOf s=false:=Bool.eq_false_iff.2 hp
  rcases y7 s h with ⟨t,rfl,hd⟩|⟨t,rfl⟩|⟨c,t,rfl,hc,hl⟩
  ·rw [kV 33 t (by decide) hp]
   have h1:=y6 t
   refine ⟨by simp only;omega,by simp only [List.length_cons];omega,by simp only [List.length_cons];omega,fun hn=>?_⟩
   obtain ⟨c1,c2,c3,c4⟩:=pw t m (fun e=>hn (by simp only [List.length_cons];omega))
   obtain ⟨n,hn'⟩:∃n,(dM t).2=n:=⟨_,rfl⟩
   rw [hn'] at c1 c2 c3 c4⊢
   simp only
   have e:(60::33::t).take (n+2)++m=60::33::(t.take n++m):=by
    rw [show n+2=n+1+1 from rfl,List.take_succ_cons,List.take_succ_cons];rfl
   have hp2:[60,33,45,45].isPrefixOf (60::33::(t.take n++m))=false:=by
    have:[45,45].isPrefixOf t=false:=by simpa [List.isPrefixOf] using hp
    have:=Ih [45,45] t m n (by decide) ⟨c2,by omega⟩ c3 this
    simpa [List.isPrefixOf] using this
   refine ⟨?_,?_,?_⟩
   ·rw [show n+2-1=(n-1)+1+1 by omega,List.getD_cons_succ,List.getD_cons_succ];exact c3
   ·rw [e]
    show (!(vy.isPrefixOf (aD (t.take n++m))))=true
    rw [Ki t m n ⟨c2,by omega⟩ c3 hd];rfl
   ·rw [e,kV 33 _ (by decide) hp2,c4,hn']
  ·rw [wO]
   have h1:=y6 (63::t)
   rw [List.length_cons] at h1
   refine ⟨?_,by simp only [List.length_cons];omega,by simp only [List.length_cons];omega,fun hn=>?_⟩
   ·simp only
    by_cases e:(dM (63::t)).2=(63::t).length
    ·rw [e];simp
    ·have:=(pw (63::t) [] e).2.1;omega
   obtain ⟨c1,c2,c3,c4⟩:=pw (63::t) m (fun e=>hn (by simp only [List.length_cons] at e⊢;omega))
   obtain ⟨n,hn'⟩:∃n,(dM (63::t)).2=n:=⟨_,rfl⟩
   rw [hn'] at c1 c2 c3 c4⊢
   obtain ⟨j,rfl⟩:∃j,n=j+1:=⟨n-1,by omega⟩
   rw [List.take_succ_cons,List.cons_append] at c4
   simp only
   have e:(60::63::t).take (j+1+1)++m=60::63::(t.take j++m):=by
    rw [List.take_succ_cons,List.take_succ_cons];rfl
   refine ⟨?_,?_,?_⟩
   ·rw [show j+1+1-1=(j+1-1)+1 by omega,List.getD_cons_succ];exact c3
   ·rw [e];rfl
   ·rw [e,wO,c4,hn']
  ·rw [kV 47 (c::t) (by decide) hp]
   have h1:=y6 (c::t)
   rw [List.length_cons] at h1
   refine ⟨by simp only;omega,by simp only [List.length_cons];omega,by simp only [List.length_cons];omega,fun hn=>?_⟩
   obtain ⟨c1,c2,c3,c4⟩:=pw (c::t) m (fun e=>hn (by simp only [List.length_cons] at e⊢;omega))
   obtain ⟨n,hn'⟩:∃n,(dM (c::t)).2=n:=⟨_,rfl⟩
   rw [hn'] at c1 c2 c3 c4⊢
   obtain ⟨j,rfl⟩:∃j,n=j+1:=⟨n-1,by omega⟩
   rw [List.take_succ_cons,List.cons_append] at c4
   simp only
   have e:(60::47::c::t).take (j+1+2)++m=60::47::c::(t.take j++m):=by
    rw [show j+1+2=j+1+1+1 from rfl,List.take_succ_cons,List.take_succ_cons,List.take_succ_cons];rfl
   refine ⟨?_,?_,?_⟩
   ·rw [show j+1+2-1=(j+1-1)+1+1 by omega,List.getD_cons_succ,List.getD_cons_succ];exact c3
   ·rw [e]
    show (!(c==62)&& !(bz (c.toNat:Int)))=true
    rw [hl,beq_eq_false_iff_ne.2 hc];rfl
   ·rw [e,kV 47 _ (by decide) (by simp [List.isPrefixOf]),c4,hn']
end Go.Proofs.YtpmdcppnlggckaaGreatDoor
namespace Go.Proofs.YtpmdcppnlggckaaGreatDoor
open Go.RowKit Go.Lib
def cO (p:UInt8→Bool) (l:ab) (i:Nat):Nat:=i+((l.drop i).takeWhile p).length
theorem EM (p:UInt8→Bool) (s:ByteArray) (i:Nat) (h:i<s.size) (hp:p s[i]=true):cO p s.data.toList i=cO p s.data.toList (i+1):=by
 unfold cO
 rw [aj s i h,List.takeWhile_cons,if_pos hp,List.length_cons];omega
theorem Ii (p:UInt8→Bool) (s:ByteArray) (i:Nat) (h:i<s.size) (hp:p s[i]=false):cO p s.data.toList i=i:=by
 unfold cO
 rw [aj s i h,List.takeWhile_cons,if_neg (by rw [hp];exact Bool.false_ne_true)];rfl
theorem EN (p:UInt8→Bool) (s:ByteArray) (i:Nat) (h:s.size≤i):cO p s.data.toList i=i:=by
 unfold cO
 rw [List.drop_eq_nil_of_le (by rw [←Lib.size_eq];exact h)];rfl
theorem Ca (p:UInt8→Bool) (s:ByteArray) (i:Nat):(s.extract i (cO p s.data.toList i)).data.toList=(s.data.toList.drop i).takeWhile p:=by
 unfold cO
 rw [Lib.extract_data,Nat.add_sub_cancel_left]
 conv=>lhs;arg 2;rw [←List.takeWhile_append_dropWhile (p:=p) (l:=s.data.toList.drop i)]
 rw [List.take_left]
theorem Ij (p:UInt8→Bool) (s:ByteArray) (i:Nat) (h:i≤s.size):i≤cO p s.data.toList i∧cO p s.data.toList i≤s.size:=by
 have h1:=(List.takeWhile_sublist (l:=s.data.toList.drop i) p).length_le
 rw [List.length_drop,←Lib.size_eq] at h1
 unfold cO
 omega
theorem EO (p:UInt8→Bool) (l:ab):l.dropWhile p=[]∨∃c t,l.dropWhile p=c::t∧p c=false:=by
 cases h:l.dropWhile p with
 |nil=>exact .inl rfl
 |cons c t=>
  refine .inr ⟨c,t,rfl,?_⟩
  have:=List.head?_dropWhile_not (p:=p) (l:=l)
  rw [h] at this
  simpa using this
theorem drop_nil (s:ByteArray) (i:Nat) (h:i≤s.size):s.data.toList.drop i=[]↔i=s.size:=by
 rw [List.drop_eq_nil_iff,←Lib.size_eq];omega
end Go.Proofs.YtpmdcppnlggckaaGreatDoor
namespace Go.Proofs.YtpmdcppnlggckaaGreatDoor
open Go.RowKit Go.Lib
structure LK where
 name:ab
 pub:ab
 sys:ab
 hn:Bool
 hp:Bool
 hs:Bool
 q:Bool
def Lc:ab:=[60,33,100,111,99,116,121,112,101]
def jW (l:ab):Bool:=Lc.isPrefixOf (aD l)
def dz (s:ab) (a:Int):Bool:=decide (0≤a)&&jW (s.drop a.toNat)
def rO (x:ab):am:=⟨4,[],ap x,[],false⟩
def o7 (s : ab) (a : Int) : am × Int × Bool :=
  if dz s a = true then (rO ((s.drop (a.toNat + 9)).takeWhile (· != 62)), ((if cO (· != 62) s (a.toNat + 9) < s.length then cO (· != 62) s (a.toNat + 9) + 1 else s.length : Nat) : Int), true) else (aG, a, false)
theorem EP (s:ab) (a:Int) (h:dz s a=false):o7 s a=(aG,a,false):=by
 unfold o7;rw [h];rfl
theorem px (s:ab) (k:Nat):dz s (k:Int)=jW (s.drop k):=by
 unfold dz
 rw [show ((k:Nat):Int).toNat=k by omega,decide_eq_true (by omega),Bool.true_and]
theorem y9 (s : ab) (k : Nat) (h : jW (s.drop k) = true) : o7 s (k : Int) = (rO ((s.drop (k + 9)).takeWhile (· != 62)), ((if cO (· != 62) s (k + 9) < s.length then cO (· != 62) s (k + 9) + 1 else s.length : Nat) : Int), true) := by
  unfold o7
  rw [px, h, if_pos rfl, show ((k : Nat) : Int).toNat = k by omega]
theorem wQ (l:ab) (h:jW l=true):9≤l.length:=by
 have:=(List.isPrefixOf_iff_prefix.1 h).length_le
 rw [dN] at this;exact this
theorem mL (s:ab) (a:Int) (h:¬(0≤a∧a+9≤(s.length:Int))):dz s a=false:=by
 unfold dz
 by_cases h0:0≤a
 ·rw [decide_eq_true h0,Bool.true_and,Bool.eq_false_iff]
  intro e
  have:=wQ _ e
  rw [List.length_drop] at this;omega
 ·rw [decide_eq_false h0,Bool.false_and]
end Go.Proofs.YtpmdcppnlggckaaGreatDoor
namespace Go.Proofs.YtpmdcppnlggckaaGreatDoor
open Go.RowKit Go.Lib
structure LR (n:ab) (d:LK):Prop where
 name:d.name=n∧d.hn=true
 pub:d.hp=false→d.pub=[]
 sys:d.hs=false→d.sys=[]
end Go.Proofs.YtpmdcppnlggckaaGreatDoor
namespace Go.Proofs.YtpmdcppnlggckaaGreatDoor
open Go.RowKit Go.Lib
def mM (l:ab):Bool:=[60,47,62].isPrefixOf l
def rP (l:ab):Bool:=decide (aS l≠0)||fq l||jW l||mM l
def cP:ab→Nat
 |[]=>0
 |c::t=>if rP (c::t)=true then 0 else cP t+1
def ix (s:ab) (a:Int):Nat:=(max 0 (min a (s.length:Int))).toNat
def KL (s:ab) (a:Int):Bool:=decide (0≤a)&&rP (s.drop a.toNat)
def bp (s:ab) (a:Int):Nat:=ix s a+cP (s.drop (ix s a))
noncomputable def rR (s:ab) (a:Int):ab:=ej false ((s.drop (ix s a)).take (cP (s.drop (ix s a))))
theorem fX (s:ab) (a:Int):ix s a≤s.length:=by unfold ix;omega
theorem fZ (s:ab) (k:Nat) (h:k≤s.length):ix s (k:Int)=k:=by unfold ix;omega
theorem Jt (s:ab) (k:Nat):KL s (k:Int)=rP (s.drop k):=by
 unfold KL
 rw [decide_eq_true (by omega),Bool.true_and,show ((k:Nat):Int).toNat=k by omega]
inductive wR:Bool→Bool→Bool→Bool→Prop
 |none:wR false false false false
 |tag:wR true false false false
 |com:wR false true false false
 |doc:wR false false true false
 |emp:wR false false false true
theorem Ik (c d:UInt8) (t:ab):jW (c::d::t)=(c==60&&d==33&&vy.isPrefixOf (aD t)):=by
 unfold jW
 have h:∀(x y:UInt8),(x.toNat:Int)<65→(x==ca y)=(y==x):=fun x y hx=>by
  have h3:=cz y
  unfold fm at h3
  rw [Bool.eq_iff_iff,beq_iff_eq,beq_iff_eq,←UInt8.toNat_inj,←UInt8.toNat_inj]
  split at h3<;>omega
 rw [aI,aI]
 show [60,33,100,111,99,116,121,112,101].isPrefixOf (ca c::ca d::aD t)=_
 rw [List.isPrefixOf_cons_cons,List.isPrefixOf_cons_cons,h 60 c (by decide),h 33 d (by decide),Bool.and_assoc]
 rfl
theorem Kj (c:UInt8):aS [c]=0∧fq [c]=false∧jW [c]=false∧mM [c]=false:=by
 refine ⟨?_,?_,?_,?_⟩
 ·unfold aS;simp
 ·unfold fq;split<;>simp_all
 ·unfold jW
  rw [Bool.eq_false_iff];intro e
  have:=(List.isPrefixOf_iff_prefix.1 e).length_le
  rw [dN] at this
  simp [Lc] at this
 ·simp [mM,List.isPrefixOf]
theorem Kk (c d:UInt8) (t:ab):decide (aS (c::d::t)≠0)=(c==60&&(if d=47 then t.head?.any eT else eT d))∧fq (c::d::t)=(c==60&&(if d=33 then !(vy.isPrefixOf (aD t)) else if d=63 then true else if d=47 then t.head?.any (fun e=> !(e==62)&& !(eT e)) else false))∧jW (c::d::t)=(c==60&&d==33&&vy.isPrefixOf (aD t))∧mM (c::d::t)=(c==60&&d==47&&t.head?.any (fun e=>e==62)):=by
 refine ⟨?_,?_,Ik c d t,?_⟩
 ·unfold aS
  by_cases hc:c=60
  ·rw [if_pos (by rw [hc];rfl),show (c==60)=true from beq_iff_eq.2 hc,Bool.true_and]
   simp only [List.drop_succ_cons,List.drop_zero,List.head?_cons,Option.some.injEq,Option.any_some]
   by_cases hd:d=47
   ·rw [if_pos hd,if_pos hd]
    cases h:t.head?.any eT
    ·rfl
    ·rfl
   ·rw [if_neg hd,if_neg hd]
    cases h:eT d
    ·rfl
    ·rfl
  ·rw [if_neg (by simpa using hc),show (c==60)=false from beq_eq_false_iff_ne.2 hc,Bool.false_and];rfl
 ·by_cases hc:c=60
  ·subst hc
   by_cases h1:d=33
   ·subst h1;rfl
   ·by_cases h2:d=63
    ·subst h2;rfl
    ·by_cases h3:d=47
     ·subst h3
      cases t with
      |nil=>rfl
      |cons e t=>rfl
     ·rw [if_neg h1,if_neg h2,if_neg h3,Bool.and_false]
      unfold fq
      split<;>simp_all
  ·rw [show (c==60)=false from beq_eq_false_iff_ne.2 hc,Bool.false_and]
   unfold fq
   split<;>simp_all
 ·unfold mM
  cases t with
  |nil=>simp [List.isPrefixOf]
  |cons e t=>simp [List.isPrefixOf,BEq.comm,Bool.and_assoc]
theorem Il (l:ab) (h:rP l=true):∃t,l=60::t:=by
 match l with
 |[]=>exact absurd h (by decide)
 |[c]=>
  obtain ⟨h1,h2,h3,h4⟩:=Kj c
  unfold rP at h
  rw [h1,h2,h3,h4] at h
  exact absurd h (by decide)
 |c::d::t=>
  obtain ⟨h1,h2,h3,h4⟩:=Kk c d t
  unfold rP at h
  rw [h1,h2,h3,h4] at h
  cases hc:c==60
  ·rw [hc] at h;simp at h
  ·exact ⟨d::t,by rw [beq_iff_eq.1 hc]⟩
theorem uy:∀l:ab,cP l≤l.length
 |[]=>Nat.le_refl _
 |c::t=>by
  rw [cP]
  split
  ·omega
  ·have:=uy t;simp;omega
theorem Cb (l:ab) (h:rP l=true):cP l=0:=by
 cases l with
 |nil=>rfl
 |cons c t=>rw [cP,if_pos h]
theorem sX (s:ByteArray) (i:Nat) (h:i<s.size) (hm:rP (s.data.toList.drop i)=false):i+cP (s.data.toList.drop i)=i+1+cP (s.data.toList.drop (i+1)):=by
 rw [aj s i h] at hm⊢
 rw [cP,hm,if_neg Bool.false_ne_true];omega
theorem sZ (s:ByteArray) (i:Nat) (hm:rP (s.data.toList.drop i)=true):i+cP (s.data.toList.drop i)=i:=by
 rw [Cb _ hm];rfl
theorem wS:∀(p l:ab),(∀c∈p,(c.toNat:Int)<65)→p.isPrefixOf (aD l)=p.isPrefixOf l
 |[],l,_=>by simp
 |c::p,[],_=>rfl
 |c::p,d::l,h=>by
  rw [aI,List.isPrefixOf_cons_cons,List.isPrefixOf_cons_cons,wS p l (fun x hx=>h x (.tail _ hx))]
  congr 1
  have h1:=h c (.head _)
  have h3:=cz d
  unfold fm at h3
  rw [Bool.eq_iff_iff,beq_iff_eq,beq_iff_eq,←UInt8.toNat_inj,←UInt8.toNat_inj]
  split at h3<;>omega
def iO (s:ab) (a:Int):Bool:=decide (0≤a)&&mM (s.drop a.toNat)
theorem uz (s:ByteArray) (a:Int):bb s a ⟨#[60,47,62]⟩=iO s.data.toList a:=by
 unfold bb iO mM
 rw [wS _ _ (by decide),show (⟨#[60,47,62]⟩:ByteArray).data.toList=[60,47,62] from rfl]
 by_cases h:a≤(s.size:Int)
 ·by_cases h0:0≤a
  ·rw [decide_eq_true ⟨h0,h⟩,decide_eq_true h0]
  ·rw [decide_eq_false (fun e=>h0 e.1),decide_eq_false h0]
 ·rw [decide_eq_false (fun e=>h e.2),List.drop_eq_nil_of_le (by rw [←Lib.size_eq];omega),Bool.false_and]
  simp [List.isPrefixOf]
theorem AL (s:ab) (a:Int):KL s a=(fM s a||(dJ s a||(dz s a||iO s a))):=by
 unfold KL fM dJ dz iO rP
 by_cases h:0≤a
 ·rw [decide_eq_true h]
  simp [h,Bool.or_assoc]
 ·rw [decide_eq_false h]
  simp [h]
theorem kW (s:ByteArray) (i:Nat) (h:i≤s.size):bp s.data.toList (i:Int)=i+cP (s.data.toList.drop i):=by
 unfold bp;rw [fZ _ _ (by rw [←Lib.size_eq];exact h)]
theorem EQ (s:ab) (a:Int) (h:a≤0):bp s a=bp s 0:=by
 unfold bp ix
 rw [show max 0 (min a (s.length:Int))=max 0 (min 0 (s.length:Int)) by omega]
theorem wT (s:ab) (a:Int) (h:(s.length:Int)≤a):bp s a=s.length:=by
 unfold bp
 rw [show ix s a=s.length by unfold ix;omega,List.drop_length];rfl
theorem mN (s:ab) (a:Int):bp s a≤s.length∧ix s a≤bp s a:=by
 have h1:=uy (s.drop (ix s a))
 have h2:=fX s a
 rw [List.length_drop] at h1
 unfold bp
 omega
end Go.Proofs.YtpmdcppnlggckaaGreatDoor
namespace Go.Proofs.YtpmdcppnlggckaaGreatDoor
open Go.RowKit Go.Lib
def er (c:UInt8):Bool:=co (c.toNat:Int)||c==47||c==62
theorem kX (c:UInt8):er c=(co ((c.toNat:Nat):Int)||(((c.toNat:Nat):Int)==47)||(((c.toNat:Nat):Int)==62)):=by
 unfold er
 congr 1
 ·congr 1
  rw [Bool.eq_iff_iff,beq_iff_eq,beq_iff_eq,←UInt8.toNat_inj]
  show c.toNat=47↔_
  omega
 ·rw [Bool.eq_iff_iff,beq_iff_eq,beq_iff_eq,←UInt8.toNat_inj]
  show c.toNat=62↔_
  omega
def bT (nm l:ab):Bool:= !nm.isEmpty&&((60::47::nm).isPrefixOf (aD l)&&(l.drop (2+nm.length)).head?.any er)
def eO (nm:ab):ab→Nat
 |[]=>0
 |c::t=>if bT nm (c::t)=true then 0 else eO nm t+1
def mO (nm s:ab) (a:Int):Bool:=decide (0≤a)&&bT nm (s.drop a.toNat)
def vz (n:Nat) (a:Int):Nat:=min a.toNat n
def et (nm s:ab) (a:Int):Nat:=vz s.length a+eO nm (s.drop (vz s.length a))
theorem wV (nm:ab):bT nm []=false:=by
 unfold bT
 rw [show aD []=[] from rfl]
 simp [List.isPrefixOf]
theorem Cc (nm:ab) (c:UInt8) (t:ab) (h:bT nm (c::t)=true):c=60:=by
 unfold bT at h
 rw [Bool.and_eq_true,Bool.and_eq_true] at h
 obtain ⟨-,h,-⟩:=h
 rw [aI,List.isPrefixOf_cons_cons,Bool.and_eq_true,beq_iff_eq] at h
 have h1:=cz c
 have h2:=c.toNat_lt
 rw [←h.1] at h1
 have h1:(60:Int)=fm (c.toNat:Int):=h1
 rw [←UInt8.toNat_inj]
 unfold fm at h1
 split at h1
 ·omega
 ·show c.toNat=60;omega
theorem jD (nm s:ab) (k:Nat):mO nm s (k:Int)=bT nm (s.drop k):=by
 unfold mO
 rw [show ((k:Nat):Int).toNat=k by omega,decide_eq_true (by omega),Bool.true_and]
theorem wW (nm s:ab) (a:Int) (h:a<0∨(s.length:Int)≤a):mO nm s a=false:=by
 unfold mO
 rcases h with h|h
 ·rw [decide_eq_false (by omega),Bool.false_and]
 ·rw [List.drop_eq_nil_of_le (by omega),wV,Bool.and_false]
theorem eu (nm s:ab) (k:Nat) (h:k≤s.length):et nm s (k:Int)=k+eO nm (s.drop k):=by
 unfold et vz
 rw [show ((k:Nat):Int).toNat=k by omega,Nat.min_eq_left h]
theorem Cd (nm s:ab) (a:Int) (h:a<0):et nm s a=et nm s 0:=by
 unfold et vz
 rw [show a.toNat=0 by omega];rfl
theorem za (nm s:ab) (a:Int) (h:(s.length:Int)≤a):et nm s a=s.length:=by
 unfold et vz
 rw [Nat.min_eq_right (by omega),List.drop_length];rfl
theorem py (nm:ab):∀l:ab,eO nm l≤l.length∧(∀i,i<eO nm l→bT nm (l.drop i)=false)∧(eO nm l<l.length→bT nm (l.drop (eO nm l))=true)
 |[]=>⟨Nat.le_refl _,fun i h=>absurd h (Nat.not_lt_zero _),fun h=>absurd h (Nat.lt_irrefl _)⟩
 |c::t=>by
  obtain ⟨h1,h2,h3⟩:=py nm t
  by_cases h:bT nm (c::t)=true
  ·have e:eO nm (c::t)=0:=by rw [eO,if_pos h]
   rw [e]
   exact ⟨Nat.zero_le _,fun i hi=>absurd hi (Nat.not_lt_zero _),fun _=>h⟩
  ·have e:eO nm (c::t)=eO nm t+1:=by rw [eO,if_neg h]
   rw [e,List.length_cons]
   refine ⟨by omega,fun i hi=>?_,fun hi=>by rw [List.drop_succ_cons];exact h3 (by omega)⟩
   cases i with
   |zero=>exact Bool.eq_false_iff.2 h
   |succ i=>rw [List.drop_succ_cons];exact h2 i (by omega)
theorem qv (nm l:ab) (n:Nat) (h1:n≤l.length) (h2:∀i,i<n→bT nm (l.drop i)=false) (h3:n=l.length∨bT nm (l.drop n)=true):eO nm l=n:=by
 obtain ⟨f1,f2,f3⟩:=py nm l
 rcases Nat.lt_trichotomy (eO nm l) n with h|h|h
 ·have:=f3 (by omega)
  rw [h2 _ h] at this;cases this
 ·exact h
 ·rcases h3 with h3|h3
  ·omega
  ·rw [f2 n h] at h3;cases h3
theorem Cf (nm:ab) (c:UInt8) (t:ab) (h:bT nm (c::t)=false):eO nm (c::t)=eO nm t+1:=by
 rw [eO,h];rfl
theorem zb (nm s:ab) (i:Nat) (hi:i<s.length) (h:bT nm (s.drop i)=false):et nm s ((i:Nat):Int)=et nm s ((i+1:Nat):Int):=by
 rw [eu nm s i (by omega),eu nm s (i+1) hi,List.drop_eq_getElem_cons hi]
 rw [List.drop_eq_getElem_cons hi] at h
 rw [Cf nm _ _ h];omega
theorem Cg (nm s:ab) (i:Nat) (hi:i<s.length) (h:bT nm (s.drop i)=true):et nm s ((i:Nat):Int)=i:=by
 rw [eu nm s i (by omega),qv nm _ 0 (Nat.zero_le _) (fun j hj=>absurd hj (Nat.not_lt_zero _)) (.inr h)];rfl
end Go.Proofs.YtpmdcppnlggckaaGreatDoor
namespace Go.Proofs.YtpmdcppnlggckaaGreatDoor
open Go.RowKit Go.Lib
noncomputable def kn (refs:Bool) (l:ab):ab:=ap (if refs=true then ej false l else l)
end Go.Proofs.YtpmdcppnlggckaaGreatDoor
namespace Go.Proofs.YtpmdcppnlggckaaGreatDoor
open Go.RowKit Go.Lib
def md:ab:=[115,99,114,105,112,116]
def wX:ab:=[60,33,45,45]
def dK (o l:ab):Bool:=(o++md).isPrefixOf (aD l)&&(l.drop (o.length+6)).head?.any er
def bH (st k:Nat) (l:ab):Option (Nat × Nat × Nat):=
 if st=0 then (if bT md l=true then none else if wX.isPrefixOf (aD l)=true then some (4,1,2) else some (1,0,0))
 else if l.head?=some 45 then some (1,st,k+1)
 else if l.head?=some 62∧2≤k then some (1,0,0)
 else if st=1∧bT md l=true then none
 else if st=1∧dK [60] l=true then some (8,2,0)
 else if st=2∧dK [60,47] l=true then some (9,1,0)
 else some (1,st,0)
def rS:Nat→Nat→Nat→ab→Nat × Nat
 |0,st,_,_=>(0,st)
 |_+1,st,_,[]=>(0,st)
 |f+1,st,k,c::t=>match bH st k (c::t) with
  |none=>(0,st)
  |some (n,st',k')=>(n+(rS f st' k' ((c::t).drop n)).1,(rS f st' k' ((c::t).drop n)).2)
def cQ (st k:Nat) (l:ab):Nat × Nat:=rS l.length st k l
theorem mP (o l:ab) (h:dK o l=true):o.length+7≤l.length:=by
 unfold dK at h
 rw [Bool.and_eq_true] at h
 have:(l.drop (o.length+6))≠[]:=fun e=>by rw [e] at h;simp at h
 have:=List.length_pos_iff.2 this
 rw [List.length_drop] at this;omega
theorem AM (l:ab) (h:wX.isPrefixOf (aD l)=true):4≤l.length:=by
 have:=(List.isPrefixOf_iff_prefix.1 h).length_le
 rw [dN] at this;exact this
theorem iP (st k:Nat) (l:ab) (hl:l≠[]) (n st' k':Nat) (h:bH st k l=some (n,st',k')):1≤n∧n≤l.length∧(st≤2→st'≤2):=by
 have h1:=List.length_pos_iff.2 hl
 unfold bH at h
 by_cases c0:st=0
 ·rw [if_pos c0] at h
  by_cases e:bT md l=true
  ·rw [if_pos e] at h;cases h
  ·rw [if_neg e] at h
   by_cases m:wX.isPrefixOf (aD l)=true
   ·rw [if_pos m] at h
    have:=AM l m
    simp only [Option.some.injEq,Prod.mk.injEq] at h;omega
   ·rw [if_neg m] at h
    simp only [Option.some.injEq,Prod.mk.injEq] at h;omega
 ·rw [if_neg c0] at h
  by_cases c1:l.head?=some 45
  ·rw [if_pos c1] at h;simp only [Option.some.injEq,Prod.mk.injEq] at h;omega
  ·rw [if_neg c1] at h
   by_cases c2:l.head?=some 62∧2≤k
   ·rw [if_pos c2] at h;simp only [Option.some.injEq,Prod.mk.injEq] at h;omega
   ·rw [if_neg c2] at h
    by_cases c3:st=1∧bT md l=true
    ·rw [if_pos c3] at h;cases h
    ·rw [if_neg c3] at h
     by_cases c4:st=1∧dK [60] l=true
     ·rw [if_pos c4] at h
      have:=mP _ _ c4.2
      simp only [Option.some.injEq,Prod.mk.injEq,List.length_cons,List.length_nil] at h this;omega
     ·rw [if_neg c4] at h
      by_cases c5:st=2∧dK [60,47] l=true
      ·rw [if_pos c5] at h
       have:=mP _ _ c5.2
       simp only [Option.some.injEq,Prod.mk.injEq,List.length_cons,List.length_nil] at h this;omega
      ·rw [if_neg c5] at h;simp only [Option.some.injEq,Prod.mk.injEq] at h;omega
theorem s6 (st k:Nat) (l:ab) (h:bH st k l=none):bT md l=true∧(st=0∨st=1):=by
 unfold bH at h
 by_cases c0:st=0
 ·rw [if_pos c0] at h
  by_cases e:bT md l=true
  ·exact ⟨e,.inl c0⟩
  ·rw [if_neg e] at h;split at h<;>cases h
 ·rw [if_neg c0] at h
  split at h
  ·cases h
  ·split at h
   ·cases h
   ·split at h
    ·rename_i c;exact ⟨c.2,.inr c.1⟩
    ·split at h
     ·cases h
     ·split at h<;>cases h
theorem qw:∀(f st k:Nat) (l:ab),l.length≤f→rS f st k l=cQ st k l
 |0,st,k,l,h=>by
  have:l=[]:=List.length_eq_zero_iff.1 (by omega)
  subst this;rfl
 |f+1,st,k,[],_=>rfl
 |f+1,st,k,c::t,h=>by
  unfold cQ
  rw [List.length_cons,rS,rS]
  cases hs:bH st k (c::t) with
  |none=>rfl
  |some r=>
   obtain ⟨n,st',k'⟩:=r
   have hb:=iP st k (c::t) (by simp) n st' k' hs
   simp only
   have hl:((c::t).drop n).length≤t.length:=by rw [List.length_drop];rw [List.length_cons];omega
   rw [List.length_cons] at h
   rw [qw f st' k' ((c::t).drop n) (by omega)]
   have:rS t.length st' k' ((c::t).drop n)=cQ st' k' ((c::t).drop n):=by
    by_cases ht:t.length≤f
    ·exact qw t.length st' k' _ hl
    ·omega
   rw [this]
termination_by f=>f
theorem Im (st k:Nat):cQ st k []=(0,st):=rfl
theorem AN (st k:Nat) (l:ab) (hl:l≠[]) (h:bH st k l=none):cQ st k l=(0,st):=by
 cases l with
 |nil=>exact absurd rfl hl
 |cons c t=>unfold cQ;rw [List.length_cons,rS,h]
theorem wY (st k:Nat) (l:ab) (hl:l≠[]) (n st' k':Nat) (h:bH st k l=some (n,st',k')):cQ st k l=(n+(cQ st' k' (l.drop n)).1,(cQ st' k' (l.drop n)).2):=by
 cases l with
 |nil=>exact absurd rfl hl
 |cons c t=>
  have hb:=iP st k (c::t) (by simp) n st' k' h
  have e:cQ st k (c::t)=rS (t.length+1) st k (c::t):=rfl
  rw [e,rS,h]
  simp only
  rw [qw t.length st' k' _ (by rw [List.length_drop];rw [List.length_cons];omega)]
def o8 (s:ab) (a:Int):Nat × Nat:=(vz s.length a+(cQ 0 0 (s.drop (vz s.length a))).1,(cQ 0 0 (s.drop (vz s.length a))).2)
theorem AO (s:ab) (k:Nat) (h:k≤s.length):o8 s (k:Int)=(k+(cQ 0 0 (s.drop k)).1,(cQ 0 0 (s.drop k)).2):=by
 unfold o8 vz
 rw [show ((k:Nat):Int).toNat=k by omega,Nat.min_eq_left h]
theorem AP {M:Nat→Nat→ab→Prop} (h0:∀st k,M st k []) (h1:∀st k l,l≠[]→bH st k l=none→M st k l) (h2:∀st k l n st' k',l≠[]→bH st k l=some (n,st',k')→M st' k' (l.drop n)→M st k l):∀(m:Nat) (st k:Nat) (l:ab),l.length≤m→M st k l
 |0,st,k,l,h=>by
  have:l=[]:=List.length_eq_zero_iff.1 (by omega)
  subst this;exact h0 st k
 |m+1,st,k,l,h=>by
  by_cases hl:l=[]
  ·subst hl;exact h0 st k
  ·cases hs:bH st k l with
   |none=>exact h1 st k l hl hs
   |some r=>
    obtain ⟨n,st',k'⟩:=r
    have hb:=iP st k l hl n st' k' hs
    exact h2 st k l n st' k' hl hs (AP h0 h1 h2 m st' k' (l.drop n) (by rw [List.length_drop];omega))
theorem ES (st k:Nat) (l:ab) (hst:st≤2):(cQ st k l).1≤l.length∧(cQ st k l).2≤2∧((cQ st k l).1<l.length→bT md (l.drop (cQ st k l).1)=true∧(cQ st k l).2≠2):=by
 have:=AP (M:=fun st k l=>st≤2→(cQ st k l).1≤l.length∧(cQ st k l).2≤2∧((cQ st k l).1<l.length→bT md (l.drop (cQ st k l).1)=true∧(cQ st k l).2≠2)) (fun st k h=>⟨Nat.le_refl _,h,fun h=>absurd h (Nat.lt_irrefl _)⟩) (fun st k l hl hs h=>by
  rw [AN st k l hl hs]
  obtain ⟨e1,e2⟩:=s6 st k l hs
  exact ⟨Nat.zero_le _,h,fun _=>⟨e1,by show st≠2;omega⟩⟩) (fun st k l n st' k' hl hs ih h=>by
  obtain ⟨b1,b2,b3⟩:=iP st k l hl n st' k' hs
  obtain ⟨i1,i2,i3⟩:=ih (b3 h)
  rw [List.length_drop] at i1 i3
  rw [wY st k l hl n st' k' hs]
  refine ⟨by simp only;omega,i2,fun hlt=>?_⟩
  simp only at hlt
  have:=i3 (by omega)
  rwa [List.drop_drop] at this) l.length st k l (Nat.le_refl _)
 exact this hst
end Go.Proofs.YtpmdcppnlggckaaGreatDoor
