/-
  Texts laid together: TagMath, TagSim, TagTok, ComMath, ComLaws, ComTold, Scan, DtMath, DtLaws, TxtMath, RawMath, RawText, ScrMath.
-/
import Derived.Test.YtajpoodpbbbkfaaGreatDoorP7
import Derived.Test.YtajpoodpbbbkfaaGreatDoorPT
import Derived.Test.YtajpoodpbbbkfaaGreatDoorP1
import Derived.Test.YtajpoodpbbbkfaaGreatDoorP4
import Derived.Test.YtajpoodpbbbkfaaGreatDoorP6
import Derived.Test.YtajpoodpbbbkfaaGreatDoorP3
namespace Go.Proofs.YtajpoodpbbbkfaaGreatDoor
open Go.RowKit Go.Lib
def dI (c:UInt8):Bool:= !(cv c||c==47||c==62)
def fA (c:UInt8):Bool:=bF (c.toNat:Int)
def aV (l:ab):Nat:=
 if l.head?=some 60 then
  (if (l.drop 1).head?=some 47 then (if (l.drop 2).head?.any fA=true then 2 else 0) else (if (l.drop 1).head?.any fA=true then 1 else 0))
 else 0
def xk (k:Nat) (nm:ab) (l:List Ln) (self:Bool):aq:=if k=1 then ⟨1,aP nm,[],l,self⟩ else ⟨2,aP nm,[],[],false⟩
def kD (l:ab):ab:=(l.drop (aV l)).takeWhile dI
noncomputable def gR (l:ab):Option (aq × Nat):=
 (eW (.s0 []) (l.drop (aV l+(kD l).length))).map fun r=>(xk (aV l) (kD l) r.1 r.2.1,aV l+(kD l).length+r.2.2)
def gJ (s:ab) (a:Int):Bool:=decide (0≤a∧aV (s.drop a.toNat)≠0)
noncomputable def pP (s:ab) (a:Int):aq × Int × Bool:=
 if 0≤a∧aV (s.drop a.toNat)≠0 then match gR (s.drop a.toNat) with
  |none=>(aJ,(s.length:Int),false)
  |some (t,n)=>(t,a+(n:Int),true)
 else (aJ,a,false)
theorem ow (s:ab) (a:Int) (h:¬(0≤a∧aV (s.drop a.toNat)≠0)):pP s a=(aJ,a,false)∧gJ s a=false:=⟨if_neg h,decide_eq_false h⟩
theorem sr (s:ab) (k:Nat) (hb:aV (s.drop k)≠0) (h:gR (s.drop k)=none):pP s (k:Int)=(aJ,(s.length:Int),false):=by
 unfold pP
 rw [show ((k:Nat):Int).toNat=k by omega,if_pos ⟨by omega,hb⟩,h]
theorem ss (s:ab) (k:Nat) (hb:aV (s.drop k)≠0) (t:aq) (n:Nat) (h:gR (s.drop k)=some (t,n)):pP s (k:Int)=(t,((k+n:Nat):Int),true):=by
 unfold pP
 rw [show ((k:Nat):Int).toNat=k by omega,if_pos ⟨by omega,hb⟩,h]
 simp only [Int.natCast_add]
theorem IB (s:ab) (k:Nat):gJ s (k:Int)=decide (aV (s.drop k)≠0):=by
 unfold gJ
 rw [show ((k:Nat):Int).toNat=k by omega]
 simp
theorem DM:aV []=0:=by decide
theorem mj (l:ab) (h:aV l≠0):∃c t,fA c=true∧((l=60::c::t∧aV l=1∧c≠47)∨(l=60::47::c::t∧aV l=2)):=by
 unfold aV at h⊢
 by_cases h60:l.head?=some 60
 ·rw [if_pos h60] at h
  simp only [if_pos h60]
  cases l with
  |nil=>simp at h60
  |cons d r=>
   simp only [List.head?_cons,Option.some.injEq] at h60
   subst h60
   simp only [List.drop_succ_cons,List.drop_zero] at h⊢
   by_cases h47:r.head?=some 47
   ·rw [if_pos h47] at h
    simp only [if_pos h47]
    cases r with
    |nil=>simp at h47
    |cons e z=>
     simp only [List.head?_cons,Option.some.injEq] at h47
     subst h47
     simp only [List.drop_succ_cons,List.drop_zero] at h⊢
     cases z with
     |nil=>simp at h
     |cons c t=>
      simp only [List.head?_cons,Option.any_some] at h⊢
      by_cases hc:fA c=true
      ·exact ⟨c,t,hc,.inr ⟨rfl,by simp [hc]⟩⟩
      ·simp [hc] at h
   ·rw [if_neg h47] at h
    simp only [if_neg h47]
    cases r with
    |nil=>simp at h
    |cons c t=>
     simp only [List.head?_cons,Option.any_some] at h⊢
     by_cases hc:fA c=true
     ·exact ⟨c,t,hc,.inl ⟨rfl,by simp [hc],fun e=>h47 (by rw [e];rfl)⟩⟩
     ·simp [hc] at h
 ·rw [if_neg h60] at h;exact absurd rfl h
theorem Fd:∀n,n<256→fA (UInt8.ofNat n)=true→dI (UInt8.ofNat n)=true∧(97≤(ct (UInt8.ofNat n)).toNat∧(ct (UInt8.ofNat n)).toNat≤122):=by decide+kernel
theorem Ff:∀n,n<256→cv (ct (UInt8.ofNat n))=cv (UInt8.ofNat n)∧fA (ct (UInt8.ofNat n))=fA (UInt8.ofNat n)∧dI (ct (UInt8.ofNat n))=dI (UInt8.ofNat n)∧(ct (UInt8.ofNat n)=62↔UInt8.ofNat n=62)∧(ct (UInt8.ofNat n)=47↔UInt8.ofNat n=47)∧(ct (UInt8.ofNat n)=61↔UInt8.ofNat n=61)∧(ct (UInt8.ofNat n)=34↔UInt8.ofNat n=34)∧(ct (UInt8.ofNat n)=39↔UInt8.ofNat n=39)∧(ct (UInt8.ofNat n)=60↔UInt8.ofNat n=60):=by decide+kernel
theorem zt (c:UInt8):UInt8.ofNat c.toNat=c:=by
 rw [←UInt8.toNat_inj,UInt8.toNat_ofNat'];exact Nat.mod_eq_of_lt c.toNat_lt
theorem IC (c:UInt8) (h:fA c=true):dI c=true∧97≤(ct c).toNat∧(ct c).toNat≤122:=by
 have:=Fd c.toNat c.toNat_lt
 rw [zt] at this
 exact this h
theorem ml (c:UInt8):cv (ct c)=cv c∧fA (ct c)=fA c∧dI (ct c)=dI c∧(ct c=62↔c=62)∧(ct c=47↔c=47)∧(ct c=61↔c=61)∧(ct c=34↔c=34)∧(ct c=39↔c=39)∧(ct c=60↔c=60):=by
 have:=Ff c.toNat c.toNat_lt
 rwa [zt] at this
theorem ID (l:ab) (h:aV l≠0):∃c t,kD l=c::t∧fA c=true:=by
 obtain ⟨c,t,hc,⟨rfl,hk,-⟩|⟨rfl,hk⟩⟩:=mj l h
 ·refine ⟨c,t.takeWhile dI,?_,hc⟩
  unfold kD
  rw [hk,List.drop_succ_cons,List.drop_zero,List.takeWhile_cons,if_pos (IC c hc).1]
 ·refine ⟨c,t.takeWhile dI,?_,hc⟩
  unfold kD
  rw [hk,List.drop_succ_cons,List.drop_succ_cons,List.drop_zero,List.takeWhile_cons,if_pos (IC c hc).1]
theorem IE (l:ab):l.drop (aV l)=kD l++l.drop (aV l+(kD l).length):=by
 unfold kD
 rw [←List.drop_drop]
 conv=>rhs;arg 2;arg 2;rw [←List.takeWhile_append_dropWhile (p:=dI) (l:=l.drop (aV l))]
 rw [List.drop_left,List.takeWhile_append_dropWhile]
theorem BH (l:ab) (h:aV l≠0):aV l+(kD l).length≤l.length∧1≤(kD l).length:=by
 obtain ⟨c,t,h1,-⟩:=ID l h
 have h2:=congrArg List.length (IE l)
 rw [List.length_drop,List.length_append,List.length_drop] at h2
 have h3:1≤(kD l).length:=by rw [h1];simp
 omega
theorem eB (l:ab) (t:aq) (n:Nat) (hr:gR l=some (t,n)):aV l+(kD l).length+1≤n∧n≤l.length∧l.getD (n-1) 0=62∧∃al self,t=xk (aV l) (kD l) al self∧eW (.s0 []) (l.drop (aV l+(kD l).length))=some (al,self,n-(aV l+(kD l).length)):=by
 unfold gR at hr
 cases hx:eW (.s0 []) (l.drop (aV l+(kD l).length)) with
 |none=>rw [hx] at hr;simp at hr
 |some r=>
  obtain ⟨al,self,m⟩:=r
  rw [hx] at hr
  simp only [Option.map_some,Option.some.injEq,Prod.mk.injEq] at hr
  obtain ⟨rfl,rfl⟩:=hr
  obtain ⟨e1,e2,e3,-⟩:=zr _ _ _ _ _ hx
  rw [List.length_drop] at e2
  refine ⟨by omega,by omega,?_,al,self,rfl,by rw [Nat.add_sub_cancel_left]⟩
  rw [List.getD_eq_getElem?_getD,List.getElem?_drop] at e3
  rw [List.getD_eq_getElem?_getD,show aV l+(kD l).length+m-1=aV l+(kD l).length+(m-1) by omega]
  exact e3
end Go.Proofs.YtajpoodpbbbkfaaGreatDoor
namespace Go.Proofs.YtajpoodpbbbkfaaGreatDoor
open Go.RowKit Go.Lib
end Go.Proofs.YtajpoodpbbbkfaaGreatDoor
namespace Go.Proofs.YtajpoodpbbbkfaaGreatDoor
open Go.RowKit Go.Lib
end Go.Proofs.YtajpoodpbbbkfaaGreatDoor
namespace Go.Proofs.YtajpoodpbbbkfaaGreatDoor
open Go.RowKit Go.Lib
def yn:ab:=[100,111,99,116,121,112,101]
def gc:ab→Bool
 |60::33::t=> !(yn.isPrefixOf (aF t))
 |60::63::_=>true
 |60::47::c::_=> !(c==62)&& !(bF (c.toNat:Int))
 |_=>false
def bV:ab→Option (ab × Nat)
 |[]=>none
 |c::t=>if [45,45,62].isPrefixOf (c::t)=true then some ([],3) else if [45,45,33,62].isPrefixOf (c::t)=true then some ([],4) else (bV t).map fun r=>(c::r.1,r.2+1)
def g7 (l:ab):ab:=
 if [45,45,33].isSuffixOf l=true then l.take (l.length-3) else if [45,45].isSuffixOf l=true then l.take (l.length-2) else if [45].isSuffixOf l=true then l.take (l.length-1) else l
def aW (l:ab):ab × Nat:=
 if [62].isPrefixOf l=true then ([],1) else if [45,62].isPrefixOf l=true then ([],2) else match bV l with
  |some r=>r
  |none=>(g7 l,l.length)
def eh (l : ab) : ab × Nat := (l.takeWhile (· != 62), l.length - ((l.dropWhile (· != 62)).tail).length)
def fB (l:ab):ab × Nat:=
 if [60,33,45,45].isPrefixOf l=true then ((aW (l.drop 4)).1,(aW (l.drop 4)).2+4)
 else if (l.drop 1).head?=some 63 then ((eh (l.drop 1)).1,(eh (l.drop 1)).2+1) else ((eh (l.drop 2)).1,(eh (l.drop 2)).2+2)
def iY (x:ab):aq:=⟨3,[],ap x,[],false⟩
def ee (s:ab) (a:Int):Bool:=decide (0≤a)&&gc (s.drop a.toNat)
def kX (s:ab) (a:Int):aq × Int × Bool:=
 if ee s a=true then (iY (fB (s.drop a.toNat)).1,a+((fB (s.drop a.toNat)).2:Int),true) else (aJ,a,false)
theorem IF (s:ab) (a:Int) (h:ee s a=false):kX s a=(aJ,a,false):=by
 unfold kX;rw [h];rfl
theorem mn (s:ab) (k:Nat):ee s (k:Int)=gc (s.drop k):=by
 unfold ee
 rw [show ((k:Nat):Int).toNat=k by omega,decide_eq_true (by omega),Bool.true_and]
theorem BI (s:ab) (k:Nat) (h:gc (s.drop k)=true):kX s (k:Int)=(iY (fB (s.drop k)).1,((k+(fB (s.drop k)).2:Nat):Int),true):=by
 unfold kX
 rw [mn,h,if_pos rfl,show ((k:Nat):Int).toNat=k by omega,Int.natCast_add]
theorem pQ (c:UInt8) (t:ab) (h1:[45,45,62].isPrefixOf (c::t)=false) (h2:[45,45,33,62].isPrefixOf (c::t)=false):bV (c::t)=(bV t).map fun r=>(c::r.1,r.2+1):=by
 rw [bV,h1,h2];rfl
theorem Fg (t:ab):bV (45::45::62::t)=some ([],3):=by
 rw [bV,if_pos (by simp [List.isPrefixOf])]
theorem Fh (t:ab):bV (45::45::33::62::t)=some ([],4):=by
 rw [bV,if_neg (by simp [List.isPrefixOf]),if_pos (by simp [List.isPrefixOf])]
def O8 (l:List UInt8):Prop:=∀i:Nat,l[i]? =some 45→l[i+1]?≠some 45
theorem jK:∀(l x:ab) (n:Nat),bV l=some (x,n)→3≤n∧n≤l.length∧x.length≤n∧l.getD (n-1) 0=62
 |[],x,n,h=>by cases h
 |c::t,x,n,h=>by
  rw [bV] at h
  by_cases h1:[45,45,62].isPrefixOf (c::t)=true
  ·rw [if_pos h1] at h
   simp only [Option.some.injEq,Prod.mk.injEq] at h
   obtain ⟨rfl,rfl⟩:=h
   match t,h1 with
   |[],h1=>simp [List.isPrefixOf] at h1
   |[d],h1=>simp [List.isPrefixOf] at h1
   |d::e::r,h1=>
    simp [List.isPrefixOf] at h1
    refine ⟨by decide,by simp,by simp,?_⟩
    rw [←h1.2.2];rfl
  ·rw [if_neg h1] at h
   by_cases h2:[45,45,33,62].isPrefixOf (c::t)=true
   ·rw [if_pos h2] at h
    simp only [Option.some.injEq,Prod.mk.injEq] at h
    obtain ⟨rfl,rfl⟩:=h
    match t,h2 with
    |[],h2=>simp [List.isPrefixOf] at h2
    |[d],h2=>simp [List.isPrefixOf] at h2
    |[d,e],h2=>simp [List.isPrefixOf] at h2
    |d::e::f::r,h2=>
     simp [List.isPrefixOf] at h2
     refine ⟨by decide,by simp,by simp,?_⟩
     rw [←h2.2.2.2];rfl
   ·rw [if_neg h2] at h
    cases hr:bV t with
    |none=>rw [hr] at h;cases h
    |some y=>
     obtain ⟨y,m⟩:=y
     rw [hr] at h
     simp only [Option.map_some,Option.some.injEq,Prod.mk.injEq] at h
     obtain ⟨rfl,rfl⟩:=h
     obtain ⟨e1,e2,e3,e4⟩:=jK t y m hr
     refine ⟨by omega,by simp;omega,by simp;omega,?_⟩
     rw [show m+1-1=(m-1)+1 by omega,List.getD_cons_succ];exact e4
end Go.Proofs.YtajpoodpbbbkfaaGreatDoor
namespace Go.Proofs.YtajpoodpbbbkfaaGreatDoor
open Go.RowKit Go.Lib
structure PM (l:ab):Prop where
 two:O8 l
 last:l.getLast?≠some 45
 first:l.head?≠some 45∧l.head?≠some 62
theorem zu (l r : ab) (h : 62 ∉ l) : eh (l ++ 62 :: r) = (l, l.length + 1) := by
  have h1 : ∀ x ∈ l, (x != 62) = true := fun x hx => by
    rw [bne_iff_ne]; rintro rfl; exact h hx
  have e1 : (l ++ 62 :: r).takeWhile (· != 62) = l := by
    rw [List.takeWhile_append_of_pos h1]; simp
  have e2 : (l ++ 62 :: r).dropWhile (· != 62) = 62 :: r := by
    rw [List.dropWhile_append_of_pos h1]; simp
  unfold eh
  rw [e1, e2, List.tail_cons, List.length_append, List.length_cons]
  congr 1
  omega
theorem IG (l : ab) (h : 62 ∉ l) : eh l = (l, l.length) := by
  have h1 : ∀ x ∈ l, (x != 62) = true := fun x hx => by
    rw [bne_iff_ne]; rintro rfl; exact h hx
  have e1 : l.takeWhile (· != 62) = l := by
    have := List.takeWhile_append_of_pos (l₂ := []) h1
    rw [List.append_nil] at this
    rw [this]; simp
  have e2 : l.dropWhile (· != 62) = [] := by
    have := List.dropWhile_append_of_pos (l₂ := []) h1
    rw [List.append_nil] at this
    rw [this]; rfl
  unfold eh
  rw [e1, e2]; rfl
theorem su (c:UInt8):∀l:ab,c∈l→∃p r,l=p++c::r∧c∉p
 |d::l,h=>by
  by_cases hd:d=c
  ·exact ⟨[],l,by rw [hd];rfl,by simp⟩
  ·obtain ⟨p,r,e,hp⟩:=su c l ((List.mem_cons.1 h).resolve_left fun e=>hd e.symm)
   refine ⟨d::p,r,by rw [e];rfl,?_⟩
   rw [List.mem_cons,not_or]
   exact ⟨fun e=>hd e.symm,hp⟩
theorem rz (l m:ab) (h:(eh l).2≠l.length):(eh l).2<l.length∧1≤(eh l).2∧l.getD ((eh l).2-1) 0=62∧eh (l.take (eh l).2++m)=eh l:=by
 by_cases hm:62∈l
 ·obtain ⟨p,r,rfl,hp⟩:∃p r,l=p++62::r∧62∉p:=by
   exact su 62 l hm
  rw [zu p r hp] at h⊢
  have e:(p++62::r).take (p.length+1)=p++[62]:=by
   rw [List.take_append,List.take_of_length_le (by omega)];simp
  refine ⟨?_,by simp,?_,?_⟩
  ·rw [List.length_append,List.length_cons] at h⊢;simp only at h⊢;omega
  ·simp only [Nat.add_sub_cancel]
   rw [List.getD_eq_getElem?_getD,List.getElem?_append_right (Nat.le_refl _),Nat.sub_self];rfl
  ·rw [e,List.append_assoc];exact zu p m hp
 ·rw [IG l hm] at h;exact absurd rfl h
theorem zw (m:ab):∀(l x:ab) (n:Nat),bV l=some (x,n)→bV (l.take n++m)=some (x,n)
 |[],x,n,h=>by cases h
 |c::t,x,n,h=>by
  have he:=jK (c::t) x n h
  rw [bV] at h
  by_cases h1:[45,45,62].isPrefixOf (c::t)=true
  ·rw [if_pos h1] at h
   simp only [Option.some.injEq,Prod.mk.injEq] at h
   obtain ⟨rfl,rfl⟩:=h
   obtain ⟨q,hq⟩:=List.isPrefixOf_iff_prefix.1 h1
   rw [←hq]
   exact Fg m
  ·rw [if_neg h1] at h
   by_cases h2:[45,45,33,62].isPrefixOf (c::t)=true
   ·rw [if_pos h2] at h
    simp only [Option.some.injEq,Prod.mk.injEq] at h
    obtain ⟨rfl,rfl⟩:=h
    obtain ⟨q,hq⟩:=List.isPrefixOf_iff_prefix.1 h2
    rw [←hq]
    exact Fh m
   ·rw [if_neg h2] at h
    cases hr:bV t with
    |none=>rw [hr] at h;cases h
    |some y=>
     obtain ⟨y,k⟩:=y
     rw [hr] at h
     simp only [Option.map_some,Option.some.injEq,Prod.mk.injEq] at h
     obtain ⟨rfl,rfl⟩:=h
     have hk:=jK t y k hr
     have key:∀p:ab,p.length≤4→p.isPrefixOf (c::t)=false→p.isPrefixOf (c::(t.take k++m))=false:=by
      intro p hp hf
      rw [Bool.eq_false_iff] at hf⊢
      intro e
      refine hf (List.isPrefixOf_iff_prefix.2 ?_)
      have e:=List.isPrefixOf_iff_prefix.1 e
      rw [List.prefix_iff_eq_take] at e⊢
      rw [e]
      have:(c::(t.take k++m)).take p.length=(c::t).take p.length:=by
       cases hpl:p.length with
       |zero=>rfl
       |succ j=>
        rw [List.take_succ_cons,List.take_succ_cons,List.take_append_of_le_length (by rw [List.length_take];omega),List.take_take,Nat.min_eq_left (by omega)]
      rw [this,List.length_take,Nat.min_eq_left (by
       have h3:=congrArg List.length e
       rw [List.length_take] at h3
       simp only [List.length_cons]
       have:=hk.2.1
       omega)]
     rw [List.take_succ_cons,List.cons_append,pQ c _ (key _ (by decide) (Bool.eq_false_iff.2 h1)) (key _ (by decide) (Bool.eq_false_iff.2 h2)),zw m t y k hr]
     rfl
end Go.Proofs.YtajpoodpbbbkfaaGreatDoor
namespace Go.Proofs.YtajpoodpbbbkfaaGreatDoor
open Go.RowKit Go.Lib
theorem sv (l:ab):fB (60::33::45::45::l)=((aW l).1,(aW l).2+4):=by
 unfold fB;rw [if_pos (by simp [List.isPrefixOf])];rfl
theorem BJ (l:ab):gc (60::33::45::l)=true:=by
 show (!(yn.isPrefixOf (aF (45::l))))=true
 rw [aM]
 simp [yn,List.isPrefixOf,show ct 45=45 by decide]
theorem zx (l:ab):fB (60::63::l)=((eh (63::l)).1,(eh (63::l)).2+1):=by
 unfold fB;rw [if_neg (by simp [List.isPrefixOf])];rfl
theorem mo (c:UInt8) (l:ab) (hc:c≠63) (h:[60,33,45,45].isPrefixOf (60::c::l)=false):fB (60::c::l)=((eh l).1,(eh l).2+2):=by
 unfold fB
 rw [h,if_neg Bool.false_ne_true,if_neg (by simp [hc])];rfl
theorem vw (l m:ab) (h:(aW l).2≠l.length):(aW l).2<l.length∧1≤(aW l).2∧l.getD ((aW l).2-1) 0=62∧aW (l.take (aW l).2++m)=aW l:=by
 by_cases h1:[62].isPrefixOf l=true
 ·obtain ⟨q,rfl⟩:=List.isPrefixOf_iff_prefix.1 h1
  have e:∀z:ab,aW ([62]++z)=([],1):=fun z=>by unfold aW;rw [if_pos (by simp [List.isPrefixOf])]
  rw [e] at h⊢
  refine ⟨?_,by simp,rfl,?_⟩
  ·simp at h⊢;exact Nat.pos_of_ne_zero fun e=>h (by rw [List.length_eq_zero_iff.1 e])
  ·exact e m
 ·by_cases h2:[45,62].isPrefixOf l=true
  ·obtain ⟨q,rfl⟩:=List.isPrefixOf_iff_prefix.1 h2
   have e:∀z:ab,aW ([45,62]++z)=([],2):=fun z=>by unfold aW;rw [if_neg (by simp [List.isPrefixOf]),if_pos (by simp [List.isPrefixOf])]
   rw [e] at h⊢
   refine ⟨?_,by simp,rfl,?_⟩
   ·simp at h⊢;exact Nat.pos_of_ne_zero fun e=>h (by rw [List.length_eq_zero_iff.1 e])
   ·exact e m
  ·cases hs:bV l with
   |none=>
    have:aW l=(g7 l,l.length):=by unfold aW;rw [if_neg h1,if_neg h2,hs]
    rw [this] at h;exact absurd rfl h
   |some r=>
    obtain ⟨x,n⟩:=r
    have hp:aW l=(x,n):=by unfold aW;rw [if_neg h1,if_neg h2,hs]
    rw [hp] at h⊢
    obtain ⟨e1,e2,e3,e4⟩:=jK l x n hs
    have hcut:=zw m l x n hs
    refine ⟨by simp only at h⊢;omega,by simp only;omega,e4,?_⟩
    simp only
    have key:∀p:ab,p.length≤3→¬p.isPrefixOf l=true→¬p.isPrefixOf (l.take n++m)=true:=by
     intro p hp hf e
     refine hf (List.isPrefixOf_iff_prefix.2 ?_)
     have e:=List.isPrefixOf_iff_prefix.1 e
     rw [List.prefix_iff_eq_take] at e⊢
     rw [List.take_append_of_le_length (by rw [List.length_take];omega),List.take_take,Nat.min_eq_left (by omega)] at e
     exact e
    unfold aW
    rw [if_neg (key _ (by decide) h1),if_neg (key _ (by decide) h2),hcut]
theorem BK (l:ab):(eh l).2≤l.length∧(eh l).1.length≤l.length:=⟨Nat.sub_le _ _,(List.takeWhile_sublist _).length_le⟩
theorem DN (l:ab):(g7 l).length≤l.length:=by
 unfold g7
 split
 ·rw [List.length_take];omega
 ·split
  ·rw [List.length_take];omega
  ·split
   ·rw [List.length_take];omega
   ·exact Nat.le_refl _
theorem zy (l:ab):(aW l).1.length≤l.length+1:=by
 unfold aW
 split
 ·simp
 ·split
  ·simp
  ·cases h:bV l with
   |none=>have:=DN l;simp only;omega
   |some r=>
    obtain ⟨x,n⟩:=r
    have:=jK l x n h
    simp only;omega
theorem BL (s:ab) (h:gc s=true):(∃t,s=60::33::t∧yn.isPrefixOf (aF t)=false)∨(∃t,s=60::63::t)∨∃c t,s=60::47::c::t∧c≠62∧bF (c.toNat:Int)=false:=by
 unfold gc at h
 split at h
 ·exact .inl ⟨_,rfl,by simpa using h⟩
 ·exact .inr (.inl ⟨_,rfl⟩)
 ·refine .inr (.inr ⟨_,_,rfl,?_⟩)
  simpa using h
 ·cases h
theorem Oj (t m:ab) (k:Nat) (hk:1≤k∧k≤t.length) (h62:t.getD (k-1) 0=62) (h:yn.isPrefixOf (aF t)=false):yn.isPrefixOf (aF (t.take k++m))=false:=by
 rw [Bool.eq_false_iff] at h⊢
 intro e
 have e:=List.isPrefixOf_iff_prefix.1 e
 have hlow:(aF t)[k-1]? =some 62:=by
  unfold aF
  rw [List.getElem?_map]
  have:t[k-1]? =some 62:=by
   rw [List.getD_eq_getElem?_getD] at h62
   rw [List.getElem?_eq_getElem (by omega)] at h62⊢
   exact congrArg some h62
  rw [this];rfl
 by_cases h7:7≤k-1
 ·refine h (List.isPrefixOf_iff_prefix.2 ?_)
  rw [List.prefix_iff_eq_take] at e⊢
  rw [show yn.length=7 from rfl] at e⊢
  rw [yq,List.take_append_of_le_length (by rw [ej,List.length_take];omega)] at e
  unfold aF at e⊢
  rw [List.map_take,List.take_take,Nat.min_eq_left (by omega)] at e
  exact e
 ·obtain ⟨q,hq⟩:=e
  have h1:(aF (t.take k++m))[k-1]? =some 62:=by
   rw [yq,List.getElem?_append_left (by rw [ej,List.length_take];omega)]
   unfold aF at hlow⊢
   rw [List.map_take,List.getElem?_take_of_lt (by omega)];exact hlow
  rw [←hq,List.getElem?_append_left (by show k-1<7;omega)] at h1
  have h2:∀j,j<7→yn[j]?≠some 62:=by decide
  exact h2 (k-1) (by omega) h1
theorem LI (q t m:ab) (k:Nat) (hq:62∉q) (hk:1≤k∧k≤t.length) (h62:t.getD (k-1) 0=62) (h:q.isPrefixOf t=false):q.isPrefixOf (t.take k++m)=false:=by
 rw [Bool.eq_false_iff] at h⊢
 intro e
 have e:=List.isPrefixOf_iff_prefix.1 e
 by_cases hl:q.length≤k
 ·refine h (List.isPrefixOf_iff_prefix.2 ?_)
  rw [List.prefix_iff_eq_take] at e⊢
  rw [List.take_append_of_le_length (by rw [List.length_take];omega),List.take_take,Nat.min_eq_left hl] at e
  exact e
 ·obtain ⟨r,hr⟩:=e
  have h1:(t.take k++m)[k-1]? =some 62:=by
   rw [List.getElem?_append_left (by rw [List.length_take];omega),List.getElem?_take_of_lt (by omega)]
   rw [List.getD_eq_getElem?_getD] at h62
   rw [List.getElem?_eq_getElem (by omega)] at h62⊢
   exact congrArg some h62
  rw [←hr,List.getElem?_append_left (by omega)] at h1
  exact hq (List.mem_of_getElem? h1)
theorem DO (l:ab):(aW l).2≤l.length:=by
 by_cases h:(aW l).2=l.length
 ·exact Nat.le_of_eq h
 ·exact Nat.le_of_lt (vw l [] h).1
theorem pR (s m:ab) (h:gc s=true):2≤(fB s).2∧(fB s).2≤s.length∧(fB s).1.length≤s.length+1∧((fB s).2≠s.length→s.getD ((fB s).2-1) 0=62∧gc (s.take (fB s).2++m)=true∧fB (s.take (fB s).2++m)=fB s):=by
 by_cases hp:[60,33,45,45].isPrefixOf s=true
 ·obtain ⟨l,rfl⟩:=List.isPrefixOf_iff_prefix.1 hp
  have e:∀z:ab,[60,33,45,45]++z=60::33::45::45::z:=fun z=>rfl
  rw [e,sv]
  have h1:=DO l
  have h2:=zy l
  refine ⟨by simp only;omega,by simp only [List.length_cons];omega,by simp only [List.length_cons];omega,fun hn=>?_⟩
  obtain ⟨c1,c2,c3,c4⟩:=vw l m (fun e=>hn (by simp only [List.length_cons];omega))
  obtain ⟨n,hn'⟩:∃n,(aW l).2=n:=⟨_,rfl⟩
  rw [hn'] at c1 c2 c3 c4⊢
  simp only
  refine ⟨?_,?_,?_⟩
  ·rw [show n+4-1=(n-1)+1+1+1+1 by omega,List.getD_cons_succ,List.getD_cons_succ,List.getD_cons_succ,List.getD_cons_succ];exact c3
  ·rw [show n+4=n+1+1+1+1 from rfl,List.take_succ_cons,List.take_succ_cons,List.take_succ_cons]
   exact BJ _
  ·rw [show n+4=n+1+1+1+1 from rfl,List.take_succ_cons,List.take_succ_cons,List.take_succ_cons,List.take_succ_cons]
   rw [List.cons_append,List.cons_append,List.cons_append,List.cons_append,sv,c4,hn']
 ·have hp:[60,33,45,45].isPrefixOf s=false:=Bool.eq_false_iff.2 hp
  rcases BL s h with ⟨t,rfl,hd⟩|⟨t,rfl⟩|⟨c,t,rfl,hc,hl⟩
  ·rw [mo 33 t (by decide) hp]
   have h1:=BK t
   refine ⟨by simp only;omega,by simp only [List.length_cons];omega,by simp only [List.length_cons];omega,fun hn=>?_⟩
   obtain ⟨c1,c2,c3,c4⟩:=rz t m (fun e=>hn (by simp only [List.length_cons];omega))
   obtain ⟨n,hn'⟩:∃n,(eh t).2=n:=⟨_,rfl⟩
   rw [hn'] at c1 c2 c3 c4⊢
   simp only
   have e:(60::33::t).take (n+2)++m=60::33::(t.take n++m):=by
    rw [show n+2=n+1+1 from rfl,List.take_succ_cons,List.take_succ_cons];rfl
   have hp2:[60,33,45,45].isPrefixOf (60::33::(t.take n++m))=false:=by
    have:[45,45].isPrefixOf t=false:=by simpa [List.isPrefixOf] using hp
    have:=LI [45,45] t m n (by decide) ⟨c2,by omega⟩ c3 this
    simpa [List.isPrefixOf] using this
   refine ⟨?_,?_,?_⟩
   ·rw [show n+2-1=(n-1)+1+1 by omega,List.getD_cons_succ,List.getD_cons_succ];exact c3
   ·rw [e]
    show (!(yn.isPrefixOf (aF (t.take n++m))))=true
    rw [Oj t m n ⟨c2,by omega⟩ c3 hd];rfl
   ·rw [e,mo 33 _ (by decide) hp2,c4,hn']
  ·rw [zx]
   have h1:=BK (63::t)
   rw [List.length_cons] at h1
   refine ⟨?_,by simp only [List.length_cons];omega,by simp only [List.length_cons];omega,fun hn=>?_⟩
   ·simp only
    by_cases e:(eh (63::t)).2=(63::t).length
    ·rw [e];simp
    ·have:=(rz (63::t) [] e).2.1;omega
   obtain ⟨c1,c2,c3,c4⟩:=rz (63::t) m (fun e=>hn (by simp only [List.length_cons] at e⊢;omega))
   obtain ⟨n,hn'⟩:∃n,(eh (63::t)).2=n:=⟨_,rfl⟩
   rw [hn'] at c1 c2 c3 c4⊢
   obtain ⟨j,rfl⟩:∃j,n=j+1:=⟨n-1,by omega⟩
   rw [List.take_succ_cons,List.cons_append] at c4
   simp only
   have e:(60::63::t).take (j+1+1)++m=60::63::(t.take j++m):=by
    rw [List.take_succ_cons,List.take_succ_cons];rfl
   refine ⟨?_,?_,?_⟩
   ·rw [show j+1+1-1=(j+1-1)+1 by omega,List.getD_cons_succ];exact c3
   ·rw [e];rfl
   ·rw [e,zx,c4,hn']
  ·rw [mo 47 (c::t) (by decide) hp]
   have h1:=BK (c::t)
   rw [List.length_cons] at h1
   refine ⟨by simp only;omega,by simp only [List.length_cons];omega,by simp only [List.length_cons];omega,fun hn=>?_⟩
   obtain ⟨c1,c2,c3,c4⟩:=rz (c::t) m (fun e=>hn (by simp only [List.length_cons] at e⊢;omega))
   obtain ⟨n,hn'⟩:∃n,(eh (c::t)).2=n:=⟨_,rfl⟩
   rw [hn'] at c1 c2 c3 c4⊢
   obtain ⟨j,rfl⟩:∃j,n=j+1:=⟨n-1,by omega⟩
   rw [List.take_succ_cons,List.cons_append] at c4
   simp only
   have e:(60::47::c::t).take (j+1+2)++m=60::47::c::(t.take j++m):=by
    rw [show j+1+2=j+1+1+1 from rfl,List.take_succ_cons,List.take_succ_cons,List.take_succ_cons];rfl
   refine ⟨?_,?_,?_⟩
   ·rw [show j+1+2-1=(j+1-1)+1+1 by omega,List.getD_cons_succ,List.getD_cons_succ];exact c3
   ·rw [e]
    show (!(c==62)&& !(bF (c.toNat:Int)))=true
    rw [hl,beq_eq_false_iff_ne.2 hc];rfl
   ·rw [e,mo 47 _ (by decide) (by simp [List.isPrefixOf]),c4,hn']
end Go.Proofs.YtajpoodpbbbkfaaGreatDoor
namespace Go.Proofs.YtajpoodpbbbkfaaGreatDoor
open Go.RowKit Go.Lib
def cw (p:UInt8→Bool) (l:ab) (i:Nat):Nat:=i+((l.drop i).takeWhile p).length
theorem IH (p:UInt8→Bool) (s:ByteArray) (i:Nat) (h:i<s.size) (hp:p s[i]=true):cw p s.data.toList i=cw p s.data.toList (i+1):=by
 unfold cw
 rw [aj s i h,List.takeWhile_cons,if_pos hp,List.length_cons];omega
theorem LJ (p:UInt8→Bool) (s:ByteArray) (i:Nat) (h:i<s.size) (hp:p s[i]=false):cw p s.data.toList i=i:=by
 unfold cw
 rw [aj s i h,List.takeWhile_cons,if_neg (by rw [hp];exact Bool.false_ne_true)];rfl
theorem II (p:UInt8→Bool) (s:ByteArray) (i:Nat) (h:s.size≤i):cw p s.data.toList i=i:=by
 unfold cw
 rw [List.drop_eq_nil_of_le (by rw [←Lib.size_eq];exact h)];rfl
theorem Fi (p:UInt8→Bool) (l:ab) (i:Nat):l.drop (cw p l i)=(l.drop i).dropWhile p:=by
 unfold cw
 rw [←List.drop_drop]
 conv=>lhs;arg 2;rw [←List.takeWhile_append_dropWhile (p:=p) (l:=l.drop i)]
 rw [List.drop_left]
theorem Fj (p:UInt8→Bool) (s:ByteArray) (i:Nat):(s.extract i (cw p s.data.toList i)).data.toList=(s.data.toList.drop i).takeWhile p:=by
 unfold cw
 rw [Lib.extract_data,Nat.add_sub_cancel_left]
 conv=>lhs;arg 2;rw [←List.takeWhile_append_dropWhile (p:=p) (l:=s.data.toList.drop i)]
 rw [List.take_left]
theorem LK (p:UInt8→Bool) (s:ByteArray) (i:Nat) (h:i≤s.size):i≤cw p s.data.toList i∧cw p s.data.toList i≤s.size:=by
 have h1:=(List.takeWhile_sublist (l:=s.data.toList.drop i) p).length_le
 rw [List.length_drop,←Lib.size_eq] at h1
 unfold cw
 omega
theorem IK (p:UInt8→Bool) (l:ab):l.dropWhile p=[]∨∃c t,l.dropWhile p=c::t∧p c=false:=by
 cases h:l.dropWhile p with
 |nil=>exact .inl rfl
 |cons c t=>
  refine .inr ⟨c,t,rfl,?_⟩
  have:=List.head?_dropWhile_not (p:=p) (l:=l)
  rw [h] at this
  simpa using this
theorem drop_nil (s:ByteArray) (i:Nat) (h:i≤s.size):s.data.toList.drop i=[]↔i=s.size:=by
 rw [List.drop_eq_nil_iff,←Lib.size_eq];omega
end Go.Proofs.YtajpoodpbbbkfaaGreatDoor
namespace Go.Proofs.YtajpoodpbbbkfaaGreatDoor
open Go.RowKit Go.Lib
structure PB where
 name:ab
 pub:ab
 sys:ab
 hn:Bool
 hp:Bool
 hs:Bool
 q:Bool
def O9:ab:=[60,33,100,111,99,116,121,112,101]
def kY (l:ab):Bool:=O9.isPrefixOf (aF l)
def dV (s:ab) (a:Int):Bool:=decide (0≤a)&&kY (s.drop a.toNat)
def ui (x:ab):aq:=⟨4,[],ap x,[],false⟩
def q8 (s : ab) (a : Int) : aq × Int × Bool :=
  if dV s a = true then (ui ((s.drop (a.toNat + 9)).takeWhile (· != 62)), ((if cw (· != 62) s (a.toNat + 9) < s.length then cw (· != 62) s (a.toNat + 9) + 1 else s.length : Nat) : Int), true) else (aJ, a, false)
theorem IL (s:ab) (a:Int) (h:dV s a=false):q8 s a=(aJ,a,false):=by
 unfold q8;rw [h];rfl
theorem rA (s:ab) (k:Nat):dV s (k:Int)=kY (s.drop k):=by
 unfold dV
 rw [show ((k:Nat):Int).toNat=k by omega,decide_eq_true (by omega),Bool.true_and]
theorem BN (s : ab) (k : Nat) (h : kY (s.drop k) = true) : q8 s (k : Int) = (ui ((s.drop (k + 9)).takeWhile (· != 62)), ((if cw (· != 62) s (k + 9) < s.length then cw (· != 62) s (k + 9) + 1 else s.length : Nat) : Int), true) := by
  unfold q8
  rw [rA, h, if_pos rfl, show ((k : Nat) : Int).toNat = k by omega]
theorem zz (l:ab) (h:kY l=true):9≤l.length:=by
 have:=(List.isPrefixOf_iff_prefix.1 h).length_le
 rw [ej] at this;exact this
theorem oy (s:ab) (a:Int) (h:¬(0≤a∧a+9≤(s.length:Int))):dV s a=false:=by
 unfold dV
 by_cases h0:0≤a
 ·rw [decide_eq_true h0,Bool.true_and,Bool.eq_false_iff]
  intro e
  have:=zz _ e
  rw [List.length_drop] at this;omega
 ·rw [decide_eq_false h0,Bool.false_and]
end Go.Proofs.YtajpoodpbbbkfaaGreatDoor
namespace Go.Proofs.YtajpoodpbbbkfaaGreatDoor
open Go.RowKit Go.Lib
structure PN (n:ab) (d:PB):Prop where
 name:d.name=n∧d.hn=true
 pub:d.hp=false→d.pub=[]
 sys:d.hs=false→d.sys=[]
end Go.Proofs.YtajpoodpbbbkfaaGreatDoor
namespace Go.Proofs.YtajpoodpbbbkfaaGreatDoor
open Go.RowKit Go.Lib
def oz (l:ab):Bool:=[60,47,62].isPrefixOf l
def q9 (l:ab):Bool:=decide (aV l≠0)||gc l||kY l||oz l
def bJ:ab→Nat
 |[]=>0
 |c::t=>if q9 (c::t)=true then 0 else bJ t+1
def jv (s:ab) (a:Int):Nat:=(max 0 (min a (s.length:Int))).toNat
def OR (s:ab) (a:Int):Bool:=decide (0≤a)&&q9 (s.drop a.toNat)
def bz (s:ab) (a:Int):Nat:=jv s a+bJ (s.drop (jv s a))
noncomputable def uj (s:ab) (a:Int):ab:=dQ false ((s.drop (jv s a)).take (bJ (s.drop (jv s a))))
theorem gS (s:ab) (a:Int):jv s a≤s.length:=by unfold jv;omega
theorem gT (s:ab) (k:Nat) (h:k≤s.length):jv s (k:Int)=k:=by unfold jv;omega
theorem Nr (s:ab) (k:Nat):OR s (k:Int)=q9 (s.drop k):=by
 unfold OR
 rw [decide_eq_true (by omega),Bool.true_and,show ((k:Nat):Int).toNat=k by omega]
inductive zA:Bool→Bool→Bool→Bool→Prop
 |none:zA false false false false
 |tag:zA true false false false
 |com:zA false true false false
 |doc:zA false false true false
 |emp:zA false false false true
theorem LL (c d:UInt8) (t:ab):kY (c::d::t)=(c==60&&d==33&&yn.isPrefixOf (aF t)):=by
 unfold kY
 have h:∀(x y:UInt8),(x.toNat:Int)<65→(x==ct y)=(y==x):=fun x y hx=>by
  have h3:=cU y
  unfold fY at h3
  rw [Bool.eq_iff_iff,beq_iff_eq,beq_iff_eq,←UInt8.toNat_inj,←UInt8.toNat_inj]
  split at h3<;>omega
 rw [aM,aM]
 show [60,33,100,111,99,116,121,112,101].isPrefixOf (ct c::ct d::aF t)=_
 rw [List.isPrefixOf_cons_cons,List.isPrefixOf_cons_cons,h 60 c (by decide),h 33 d (by decide),Bool.and_assoc]
 rfl
theorem Ok (c:UInt8):aV [c]=0∧gc [c]=false∧kY [c]=false∧oz [c]=false:=by
 refine ⟨?_,?_,?_,?_⟩
 ·unfold aV;simp
 ·unfold gc;split<;>simp_all
 ·unfold kY
  rw [Bool.eq_false_iff];intro e
  have:=(List.isPrefixOf_iff_prefix.1 e).length_le
  rw [ej] at this
  simp [O9] at this
 ·simp [oz,List.isPrefixOf]
theorem Ol (c d:UInt8) (t:ab):decide (aV (c::d::t)≠0)=(c==60&&(if d=47 then t.head?.any fA else fA d))∧gc (c::d::t)=(c==60&&(if d=33 then !(yn.isPrefixOf (aF t)) else if d=63 then true else if d=47 then t.head?.any (fun e=> !(e==62)&& !(fA e)) else false))∧kY (c::d::t)=(c==60&&d==33&&yn.isPrefixOf (aF t))∧oz (c::d::t)=(c==60&&d==47&&t.head?.any (fun e=>e==62)):=by
 refine ⟨?_,?_,LL c d t,?_⟩
 ·unfold aV
  by_cases hc:c=60
  ·rw [if_pos (by rw [hc];rfl),show (c==60)=true from beq_iff_eq.2 hc,Bool.true_and]
   simp only [List.drop_succ_cons,List.drop_zero,List.head?_cons,Option.some.injEq,Option.any_some]
   by_cases hd:d=47
   ·rw [if_pos hd,if_pos hd]
    cases h:t.head?.any fA
    ·rfl
    ·rfl
   ·rw [if_neg hd,if_neg hd]
    cases h:fA d
    ·rfl
    ·rfl
  ·rw [if_neg (by simpa using hc),show (c==60)=false from beq_eq_false_iff_ne.2 hc,Bool.false_and];rfl
 ·by_cases hc:c=60
  ·subst hc
   by_cases h1:d=33
   ·subst h1;rfl
   ·by_cases h2:d=63
    ·subst h2;rfl
    ·by_cases h3:d=47
     ·subst h3
      cases t with
      |nil=>rfl
      |cons e t=>rfl
     ·rw [if_neg h1,if_neg h2,if_neg h3,Bool.and_false]
      unfold gc
      split<;>simp_all
  ·rw [show (c==60)=false from beq_eq_false_iff_ne.2 hc,Bool.false_and]
   unfold gc
   split<;>simp_all
 ·unfold oz
  cases t with
  |nil=>simp [List.isPrefixOf]
  |cons e t=>simp [List.isPrefixOf,BEq.comm,Bool.and_assoc]
theorem rB (l:ab) (h:q9 l=true):∃t,l=60::t:=by
 match l with
 |[]=>exact absurd h (by decide)
 |[c]=>
  obtain ⟨h1,h2,h3,h4⟩:=Ok c
  unfold q9 at h
  rw [h1,h2,h3,h4] at h
  exact absurd h (by decide)
 |c::d::t=>
  obtain ⟨h1,h2,h3,h4⟩:=Ol c d t
  unfold q9 at h
  rw [h1,h2,h3,h4] at h
  cases hc:c==60
  ·rw [hc] at h;simp at h
  ·exact ⟨d::t,by rw [beq_iff_eq.1 hc]⟩
theorem xl:∀l:ab,bJ l≤l.length
 |[]=>Nat.le_refl _
 |c::t=>by
  rw [bJ]
  split
  ·omega
  ·have:=xl t;simp;omega
theorem Fk (l:ab) (h:q9 l=true):bJ l=0:=by
 cases l with
 |nil=>rfl
 |cons c t=>rw [bJ,if_pos h]
theorem vx:∀(a z:ab),60∉a→bJ (a++z)=a.length+bJ z
 |[],z,_=>by simp
 |c::a,z,h=>by
  rw [List.mem_cons,not_or] at h
  have:q9 (c::(a++z))=false:=by
   rw [Bool.eq_false_iff];intro e
   obtain ⟨t,e⟩:=rB _ e
   exact h.1 (List.cons.inj e).1.symm
  rw [List.cons_append,bJ,this,if_neg Bool.false_ne_true,vx a z h.2,List.length_cons];omega
theorem DP:∀(l:ab),bJ l<l.length→q9 (l.drop (bJ l))=true
 |[],h=>absurd h (Nat.not_lt_zero _)
 |c::t,h=>by
  rw [bJ] at h⊢
  split
  ·rename_i hm;exact hm
  ·rename_i hm
   rw [if_neg hm,List.length_cons] at h
   exact DP t (by omega)
theorem vy (s:ByteArray) (i:Nat) (h:i<s.size) (hm:q9 (s.data.toList.drop i)=false):i+bJ (s.data.toList.drop i)=i+1+bJ (s.data.toList.drop (i+1)):=by
 rw [aj s i h] at hm⊢
 rw [bJ,hm,if_neg Bool.false_ne_true];omega
theorem vz (s:ByteArray) (i:Nat) (hm:q9 (s.data.toList.drop i)=true):i+bJ (s.data.toList.drop i)=i:=by
 rw [Fk _ hm];rfl
theorem zB:∀(p l:ab),(∀c∈p,(c.toNat:Int)<65)→p.isPrefixOf (aF l)=p.isPrefixOf l
 |[],l,_=>by simp
 |c::p,[],_=>rfl
 |c::p,d::l,h=>by
  rw [aM,List.isPrefixOf_cons_cons,List.isPrefixOf_cons_cons,zB p l (fun x hx=>h x (.tail _ hx))]
  congr 1
  have h1:=h c (.head _)
  have h3:=cU d
  unfold fY at h3
  rw [Bool.eq_iff_iff,beq_iff_eq,beq_iff_eq,←UInt8.toNat_inj,←UInt8.toNat_inj]
  split at h3<;>omega
def jM (s:ab) (a:Int):Bool:=decide (0≤a)&&oz (s.drop a.toNat)
theorem xm (s:ByteArray) (a:Int):bf s a ⟨#[60,47,62]⟩=jM s.data.toList a:=by
 unfold bf jM oz
 rw [zB _ _ (by decide),show (⟨#[60,47,62]⟩:ByteArray).data.toList=[60,47,62] from rfl]
 by_cases h:a≤(s.size:Int)
 ·by_cases h0:0≤a
  ·rw [decide_eq_true ⟨h0,h⟩,decide_eq_true h0]
  ·rw [decide_eq_false (fun e=>h0 e.1),decide_eq_false h0]
 ·rw [decide_eq_false (fun e=>h e.2),List.drop_eq_nil_of_le (by rw [←Lib.size_eq];omega),Bool.false_and]
  simp [List.isPrefixOf]
theorem DQ (s:ab) (a:Int):OR s a=(gJ s a||(ee s a||(dV s a||jM s a))):=by
 unfold OR gJ ee dV jM q9
 by_cases h:0≤a
 ·rw [decide_eq_true h]
  simp [h,Bool.or_assoc]
 ·rw [decide_eq_false h]
  simp [h]
theorem mp (s:ByteArray) (i:Nat) (h:i≤s.size):bz s.data.toList (i:Int)=i+bJ (s.data.toList.drop i):=by
 unfold bz;rw [gT _ _ (by rw [←Lib.size_eq];exact h)]
theorem IM (s:ab) (a:Int) (h:a≤0):bz s a=bz s 0:=by
 unfold bz jv
 rw [show max 0 (min a (s.length:Int))=max 0 (min 0 (s.length:Int)) by omega]
theorem zC (s:ab) (a:Int) (h:(s.length:Int)≤a):bz s a=s.length:=by
 unfold bz
 rw [show jv s a=s.length by unfold jv;omega,List.drop_length];rfl
theorem oA (s:ab) (a:Int):bz s a≤s.length∧jv s a≤bz s a:=by
 have h1:=xl (s.drop (jv s a))
 have h2:=gS s a
 rw [List.length_drop] at h1
 unfold bz
 omega
end Go.Proofs.YtajpoodpbbbkfaaGreatDoor
namespace Go.Proofs.YtajpoodpbbbkfaaGreatDoor
open Go.RowKit Go.Lib
def eX (c:UInt8):Bool:=cG (c.toNat:Int)||c==47||c==62
theorem mq (c:UInt8):eX c=(cG ((c.toNat:Nat):Int)||(((c.toNat:Nat):Int)==47)||(((c.toNat:Nat):Int)==62)):=by
 unfold eX
 congr 1
 ·congr 1
  rw [Bool.eq_iff_iff,beq_iff_eq,beq_iff_eq,←UInt8.toNat_inj]
  show c.toNat=47↔_
  omega
 ·rw [Bool.eq_iff_iff,beq_iff_eq,beq_iff_eq,←UInt8.toNat_inj]
  show c.toNat=62↔_
  omega
def cb (nm l:ab):Bool:= !nm.isEmpty&&((60::47::nm).isPrefixOf (aF l)&&(l.drop (2+nm.length)).head?.any eX)
def fs (nm:ab):ab→Nat
 |[]=>0
 |c::t=>if cb nm (c::t)=true then 0 else fs nm t+1
def oB (nm s:ab) (a:Int):Bool:=decide (0≤a)&&cb nm (s.drop a.toNat)
def yp (n:Nat) (a:Int):Nat:=min a.toNat n
def eZ (nm s:ab) (a:Int):Nat:=yp s.length a+fs nm (s.drop (yp s.length a))
theorem zD (nm:ab):cb nm []=false:=by
 unfold cb
 rw [show aF []=[] from rfl]
 simp [List.isPrefixOf]
theorem vA (nm:ab) (c:UInt8) (t:ab) (h:cb nm (c::t)=true):c=60:=by
 unfold cb at h
 rw [Bool.and_eq_true,Bool.and_eq_true] at h
 obtain ⟨-,h,-⟩:=h
 rw [aM,List.isPrefixOf_cons_cons,Bool.and_eq_true,beq_iff_eq] at h
 have h1:=cU c
 have h2:=c.toNat_lt
 rw [←h.1] at h1
 have h1:(60:Int)=fY (c.toNat:Int):=h1
 rw [←UInt8.toNat_inj]
 unfold fY at h1
 split at h1
 ·omega
 ·show c.toNat=60;omega
theorem kE (nm s:ab) (k:Nat):oB nm s (k:Int)=cb nm (s.drop k):=by
 unfold oB
 rw [show ((k:Nat):Int).toNat=k by omega,decide_eq_true (by omega),Bool.true_and]
theorem zE (nm s:ab) (a:Int) (h:a<0∨(s.length:Int)≤a):oB nm s a=false:=by
 unfold oB
 rcases h with h|h
 ·rw [decide_eq_false (by omega),Bool.false_and]
 ·rw [List.drop_eq_nil_of_le (by omega),zD,Bool.and_false]
theorem fa (nm s:ab) (k:Nat) (h:k≤s.length):eZ nm s (k:Int)=k+fs nm (s.drop k):=by
 unfold eZ yp
 rw [show ((k:Nat):Int).toNat=k by omega,Nat.min_eq_left h]
theorem Fl (nm s:ab) (a:Int) (h:a<0):eZ nm s a=eZ nm s 0:=by
 unfold eZ yp
 rw [show a.toNat=0 by omega];rfl
theorem BO (nm s:ab) (a:Int) (h:(s.length:Int)≤a):eZ nm s a=s.length:=by
 unfold eZ yp
 rw [Nat.min_eq_right (by omega),List.drop_length];rfl
theorem oC (nm:ab):∀l:ab,fs nm l≤l.length∧(∀i,i<fs nm l→cb nm (l.drop i)=false)∧(fs nm l<l.length→cb nm (l.drop (fs nm l))=true)
 |[]=>⟨Nat.le_refl _,fun i h=>absurd h (Nat.not_lt_zero _),fun h=>absurd h (Nat.lt_irrefl _)⟩
 |c::t=>by
  obtain ⟨h1,h2,h3⟩:=oC nm t
  by_cases h:cb nm (c::t)=true
  ·have e:fs nm (c::t)=0:=by rw [fs,if_pos h]
   rw [e]
   exact ⟨Nat.zero_le _,fun i hi=>absurd hi (Nat.not_lt_zero _),fun _=>h⟩
  ·have e:fs nm (c::t)=fs nm t+1:=by rw [fs,if_neg h]
   rw [e,List.length_cons]
   refine ⟨by omega,fun i hi=>?_,fun hi=>by rw [List.drop_succ_cons];exact h3 (by omega)⟩
   cases i with
   |zero=>exact Bool.eq_false_iff.2 h
   |succ i=>rw [List.drop_succ_cons];exact h2 i (by omega)
theorem sw (nm l:ab) (n:Nat) (h1:n≤l.length) (h2:∀i,i<n→cb nm (l.drop i)=false) (h3:n=l.length∨cb nm (l.drop n)=true):fs nm l=n:=by
 obtain ⟨f1,f2,f3⟩:=oC nm l
 rcases Nat.lt_trichotomy (fs nm l) n with h|h|h
 ·have:=f3 (by omega)
  rw [h2 _ h] at this;cases this
 ·exact h
 ·rcases h3 with h3|h3
  ·omega
  ·rw [f2 n h] at h3;cases h3
theorem Fm (nm:ab) (c:UInt8) (t:ab) (h:cb nm (c::t)=false):fs nm (c::t)=fs nm t+1:=by
 rw [fs,h];rfl
theorem BP (nm s:ab) (i:Nat) (hi:i<s.length) (h:cb nm (s.drop i)=false):eZ nm s ((i:Nat):Int)=eZ nm s ((i+1:Nat):Int):=by
 rw [fa nm s i (by omega),fa nm s (i+1) hi,List.drop_eq_getElem_cons hi]
 rw [List.drop_eq_getElem_cons hi] at h
 rw [Fm nm _ _ h];omega
theorem Fo (nm s:ab) (i:Nat) (hi:i<s.length) (h:cb nm (s.drop i)=true):eZ nm s ((i:Nat):Int)=i:=by
 rw [fa nm s i (by omega),sw nm _ 0 (Nat.zero_le _) (fun j hj=>absurd hj (Nat.not_lt_zero _)) (.inr h)];rfl
end Go.Proofs.YtajpoodpbbbkfaaGreatDoor
namespace Go.Proofs.YtajpoodpbbbkfaaGreatDoor
open Go.RowKit Go.Lib
noncomputable def kF (refs:Bool) (l:ab):ab:=ap (if refs=true then dQ false l else l)
end Go.Proofs.YtajpoodpbbbkfaaGreatDoor
namespace Go.Proofs.YtajpoodpbbbkfaaGreatDoor
open Go.RowKit Go.Lib
def nz:ab:=[115,99,114,105,112,116]
def zG:ab:=[60,33,45,45]
def ef (o l:ab):Bool:=(o++nz).isPrefixOf (aF l)&&(l.drop (o.length+6)).head?.any eX
def bO (st k:Nat) (l:ab):Option (Nat × Nat × Nat):=
 if st=0 then (if cb nz l=true then none else if zG.isPrefixOf (aF l)=true then some (4,1,2) else some (1,0,0))
 else if l.head?=some 45 then some (1,st,k+1)
 else if l.head?=some 62∧2≤k then some (1,0,0)
 else if st=1∧cb nz l=true then none
 else if st=1∧ef [60] l=true then some (8,2,0)
 else if st=2∧ef [60,47] l=true then some (9,1,0)
 else some (1,st,0)
def uk:Nat→Nat→Nat→ab→Nat × Nat
 |0,st,_,_=>(0,st)
 |_+1,st,_,[]=>(0,st)
 |f+1,st,k,c::t=>match bO st k (c::t) with
  |none=>(0,st)
  |some (n,st',k')=>(n+(uk f st' k' ((c::t).drop n)).1,(uk f st' k' ((c::t).drop n)).2)
def dg (st k:Nat) (l:ab):Nat × Nat:=uk l.length st k l
theorem oD (o l:ab) (h:ef o l=true):o.length+7≤l.length:=by
 unfold ef at h
 rw [Bool.and_eq_true] at h
 have:(l.drop (o.length+6))≠[]:=fun e=>by rw [e] at h;simp at h
 have:=List.length_pos_iff.2 this
 rw [List.length_drop] at this;omega
theorem DR (l:ab) (h:zG.isPrefixOf (aF l)=true):4≤l.length:=by
 have:=(List.isPrefixOf_iff_prefix.1 h).length_le
 rw [ej] at this;exact this
theorem jN (st k:Nat) (l:ab) (hl:l≠[]) (n st' k':Nat) (h:bO st k l=some (n,st',k')):1≤n∧n≤l.length∧(st≤2→st'≤2):=by
 have h1:=List.length_pos_iff.2 hl
 unfold bO at h
 by_cases c0:st=0
 ·rw [if_pos c0] at h
  by_cases e:cb nz l=true
  ·rw [if_pos e] at h;cases h
  ·rw [if_neg e] at h
   by_cases m:zG.isPrefixOf (aF l)=true
   ·rw [if_pos m] at h
    have:=DR l m
    simp only [Option.some.injEq,Prod.mk.injEq] at h;omega
   ·rw [if_neg m] at h
    simp only [Option.some.injEq,Prod.mk.injEq] at h;omega
 ·rw [if_neg c0] at h
  by_cases c1:l.head?=some 45
  ·rw [if_pos c1] at h;simp only [Option.some.injEq,Prod.mk.injEq] at h;omega
  ·rw [if_neg c1] at h
   by_cases c2:l.head?=some 62∧2≤k
   ·rw [if_pos c2] at h;simp only [Option.some.injEq,Prod.mk.injEq] at h;omega
   ·rw [if_neg c2] at h
    by_cases c3:st=1∧cb nz l=true
    ·rw [if_pos c3] at h;cases h
    ·rw [if_neg c3] at h
     by_cases c4:st=1∧ef [60] l=true
     ·rw [if_pos c4] at h
      have:=oD _ _ c4.2
      simp only [Option.some.injEq,Prod.mk.injEq,List.length_cons,List.length_nil] at h this;omega
     ·rw [if_neg c4] at h
      by_cases c5:st=2∧ef [60,47] l=true
      ·rw [if_pos c5] at h
       have:=oD _ _ c5.2
       simp only [Option.some.injEq,Prod.mk.injEq,List.length_cons,List.length_nil] at h this;omega
      ·rw [if_neg c5] at h;simp only [Option.some.injEq,Prod.mk.injEq] at h;omega
theorem vB (st k:Nat) (l:ab) (h:bO st k l=none):cb nz l=true∧(st=0∨st=1):=by
 unfold bO at h
 by_cases c0:st=0
 ·rw [if_pos c0] at h
  by_cases e:cb nz l=true
  ·exact ⟨e,.inl c0⟩
  ·rw [if_neg e] at h;split at h<;>cases h
 ·rw [if_neg c0] at h
  split at h
  ·cases h
  ·split at h
   ·cases h
   ·split at h
    ·rename_i c;exact ⟨c.2,.inr c.1⟩
    ·split at h
     ·cases h
     ·split at h<;>cases h
theorem sx:∀(f st k:Nat) (l:ab),l.length≤f→uk f st k l=dg st k l
 |0,st,k,l,h=>by
  have:l=[]:=List.length_eq_zero_iff.1 (by omega)
  subst this;rfl
 |f+1,st,k,[],_=>rfl
 |f+1,st,k,c::t,h=>by
  unfold dg
  rw [List.length_cons,uk,uk]
  cases hs:bO st k (c::t) with
  |none=>rfl
  |some r=>
   obtain ⟨n,st',k'⟩:=r
   have hb:=jN st k (c::t) (by simp) n st' k' hs
   simp only
   have hl:((c::t).drop n).length≤t.length:=by rw [List.length_drop];rw [List.length_cons];omega
   rw [List.length_cons] at h
   rw [sx f st' k' ((c::t).drop n) (by omega)]
   have:uk t.length st' k' ((c::t).drop n)=dg st' k' ((c::t).drop n):=by
    by_cases ht:t.length≤f
    ·exact sx t.length st' k' _ hl
    ·omega
   rw [this]
termination_by f=>f
theorem LM (st k:Nat):dg st k []=(0,st):=rfl
theorem DT (st k:Nat) (l:ab) (hl:l≠[]) (h:bO st k l=none):dg st k l=(0,st):=by
 cases l with
 |nil=>exact absurd rfl hl
 |cons c t=>unfold dg;rw [List.length_cons,uk,h]
theorem zH (st k:Nat) (l:ab) (hl:l≠[]) (n st' k':Nat) (h:bO st k l=some (n,st',k')):dg st k l=(n+(dg st' k' (l.drop n)).1,(dg st' k' (l.drop n)).2):=by
 cases l with
 |nil=>exact absurd rfl hl
 |cons c t=>
  have hb:=jN st k (c::t) (by simp) n st' k' h
  have e:dg st k (c::t)=uk (t.length+1) st k (c::t):=rfl
  rw [e,uk,h]
  simp only
  rw [sx t.length st' k' _ (by rw [List.length_drop];rw [List.length_cons];omega)]
def ra (s:ab) (a:Int):Nat × Nat:=(yp s.length a+(dg 0 0 (s.drop (yp s.length a))).1,(dg 0 0 (s.drop (yp s.length a))).2)
theorem DU (s:ab) (k:Nat) (h:k≤s.length):ra s (k:Int)=(k+(dg 0 0 (s.drop k)).1,(dg 0 0 (s.drop k)).2):=by
 unfold ra yp
 rw [show ((k:Nat):Int).toNat=k by omega,Nat.min_eq_left h]
theorem DV {M:Nat→Nat→ab→Prop} (h0:∀st k,M st k []) (h1:∀st k l,l≠[]→bO st k l=none→M st k l) (h2:∀st k l n st' k',l≠[]→bO st k l=some (n,st',k')→M st' k' (l.drop n)→M st k l):∀(m:Nat) (st k:Nat) (l:ab),l.length≤m→M st k l
 |0,st,k,l,h=>by
  have:l=[]:=List.length_eq_zero_iff.1 (by omega)
  subst this;exact h0 st k
 |m+1,st,k,l,h=>by
  by_cases hl:l=[]
  ·subst hl;exact h0 st k
  ·cases hs:bO st k l with
   |none=>exact h1 st k l hl hs
   |some r=>
    obtain ⟨n,st',k'⟩:=r
    have hb:=jN st k l hl n st' k' hs
    exact h2 st k l n st' k' hl hs (DV h0 h1 h2 m st' k' (l.drop n) (by rw [List.length_drop];omega))
theorem BQ (st k:Nat) (l:ab) (hst:st≤2):(dg st k l).1≤l.length∧(dg st k l).2≤2∧((dg st k l).1<l.length→cb nz (l.drop (dg st k l).1)=true∧(dg st k l).2≠2):=by
 have:=DV (M:=fun st k l=>st≤2→(dg st k l).1≤l.length∧(dg st k l).2≤2∧((dg st k l).1<l.length→cb nz (l.drop (dg st k l).1)=true∧(dg st k l).2≠2)) (fun st k h=>⟨Nat.le_refl _,h,fun h=>absurd h (Nat.lt_irrefl _)⟩) (fun st k l hl hs h=>by
  rw [DT st k l hl hs]
  obtain ⟨e1,e2⟩:=vB st k l hs
  exact ⟨Nat.zero_le _,h,fun _=>⟨e1,by show st≠2;omega⟩⟩) (fun st k l n st' k' hl hs ih h=>by
  obtain ⟨b1,b2,b3⟩:=jN st k l hl n st' k' hs
  obtain ⟨i1,i2,i3⟩:=ih (b3 h)
  rw [List.length_drop] at i1 i3
  rw [zH st k l hl n st' k' hs]
  refine ⟨by simp only;omega,i2,fun hlt=>?_⟩
  simp only at hlt
  have:=i3 (by omega)
  rwa [List.drop_drop] at this) l.length st k l (Nat.le_refl _)
 exact this hst
end Go.Proofs.YtajpoodpbbbkfaaGreatDoor
