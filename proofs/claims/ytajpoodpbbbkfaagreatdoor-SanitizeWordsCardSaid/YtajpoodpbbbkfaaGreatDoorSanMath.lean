/-
  What is left of bytes: plain mathematics.
-/
import Derived.Test.YtajpoodpbbbkfaaGreatDoorEscExt
namespace Go.Proofs.YtajpoodpbbbkfaaGreatDoor
open Go.RowKit Go.Lib
noncomputable def bB (d:Int) (b:ab):ab:=fC d (cT b)
theorem ts (b:ab):(∀c∈cT b,c≠0∧c≠13)∧(∀c,(cT b).head?=some c→iT c=false):=
 ⟨(vT b).told,(vT b).first⟩
theorem xT (b:ab):0∉cT b:=fun h=>((ts b).1 0 h).1 rfl
theorem tu (b:ab):(cT b).head?≠some 10:=fun h=>by have:=(ts b).2 10 h;cases this
theorem jk (d:Int) (hd:0≤d∧d≤2) (b:ab):bB d b=ba (cT b):=by
 unfold bB;rw [o4 d _ hd,if_neg (fun e=>tu b e.2)];rfl
theorem j6 (d:Int) (hd:0≤d∧d≤2) (b:ab):validD (bB d b)=true∧gi (bB d b)=bB d b∧ay (bB d b)=bB d b:=by
 obtain ⟨h1,h2,h3,-⟩:=CG d hd _ (CB b)
 exact ⟨h1,h2,h3⟩
theorem o6 (d:Int) (b:ab):(bB d b).length≤18*b.length:=by
 have h1:=tm d (cT b)
 have h2:=xR b
 unfold bB;omega
theorem vW (d:Int) (b:ab):∀c∈bB d b,nK c=false:=tn d _
theorem JP (d:Int) (hd:0≤d∧d≤2) (b:ab):(bB d b).head?≠some 10:=fun h=>by
 rw [jk d hd] at h
 cases hs:ba (cT b) with
 |nil=>rw [hs] at h;cases h
 |cons c u=>
  rw [hs] at h
  simp only [List.head?_cons,Option.some.injEq] at h
  subst h
  exact tu b (FV _ (xT b) u hs)
theorem xU (d:Int) (hd:0≤d∧d≤2) (b:ab):kZ (gi (bB d b))=aQ (cT b):=by
 rw [(j6 d hd b).2.1]
 show cE [] (eD (bB d b))=_
 rw [Ap _ (fun h=>by have:=vW d b 60 h;cases this)]
 unfold bB
 rw [Mv false d hd,if_neg (fun e=>tu b e.2),List.nil_append,gF _ (xT b),Cd]
def Av (x:ab):ab:=(cP false io x).told
theorem xV (d:Int) (hd:0≤d∧d≤2) (b:ab):cT (bB d b)=Av (cT b):=by
 have h:=xU d hd b
 have h3:=(j6 d hd b).2
 rw [h3.1] at h
 show p7 (kZ (ay (gi (bB d b))))=_
 rw [h3.1,h3.2,h]
 rcases Classical.em (cT b=[]) with e|e
 ·rw [e];rfl
 ·rw [zI _ e,My];rfl
def Ei (f:aC):Prop:=f.ends=0∧(f.blanks=[]∨f.blanks=[32])∧cP false io f.told=⟨f.told,0,[]⟩
theorem JQ (f:aC) (h:Ei f) (c:UInt8):Ei (dW false f c):=by
 obtain ⟨h1,h2,h3⟩:=h
 by_cases h0:c=0
 ·have:dW false f c=f:=by unfold dW;rw [if_pos h0]
  rw [this];exact ⟨h1,h2,h3⟩
 cases hb:iT c
 ·have one:∀g:aC,dW false g c=⟨cY g c,0,[]⟩:=fun g=>by
   unfold dW;rw [if_neg h0,hb,if_neg Bool.false_ne_true]
  rw [one]
  refine ⟨rfl,.inl rfl,?_⟩
  show cP false io (cY f c)=⟨cY f c,0,[]⟩
  by_cases hn:f.told=[]
  ·have:cY f c=[c]:=by unfold cY;rw [if_pos hn];rfl
   rw [this,gu,s8,one];rfl
  ·have e1:cY f c=f.told++(f.blanks++[c]):=by
    unfold cY;rw [if_neg hn,h1];simp
   have e2:∀B:ab,f.blanks=B→cY ⟨f.told,0,B⟩ c=cY f c:=fun B hB=>by
    unfold cY;rw [h1,hB]
   conv=>lhs;rw [e1]
   rw [lF,h3]
   rcases h2 with e|e
   ·rw [e,List.nil_append,gu,s8,one,e2 [] e]
   ·rw [e]
    show cP false (dW false ⟨f.told,0,[]⟩ 32) [c]=_
    rw [show dW false ⟨f.told,0,[]⟩ 32=⟨f.told,0,[32]⟩ from rfl,gu,s8,one,e2 [32] e]
 ·have hf:dW false f c=if f.ends=0∧f.blanks=[] then ⟨f.told,0,[32]⟩ else f:=by
   unfold dW;rw [if_neg h0,hb,if_pos rfl,if_neg Bool.false_ne_true]
  rw [hf]
  split
  ·exact ⟨rfl,.inr rfl,h3⟩
  ·exact ⟨h1,h2,h3⟩
theorem vX:∀(s:ab) (f:aC),Ei f→Ei (cP false f s)
 |[],_,h=>h
 |c::s,f,h=>vX s _ (JQ f h c)
theorem JR (x:ab):Av (Av x)=Av x:=by
 have h:=(vX x io ⟨rfl,.inl rfl,rfl⟩).2.2
 show (cP false io (cP false io x).told).told=_
 rw [h];rfl
theorem Mz (x:ab):(Av x).length≤x.length:=by
 have h:=gv false x io
 have h2:(cP false io x).told.length≤(cP false io x).size:=by unfold aC.size;omega
 have h3:io.size=0:=rfl
 unfold Av;omega
theorem FW (x:ab):∀c∈Av x,c≠0∧c≠13:=(lG.put false x io nD).told
def re (c:UInt8):Bool:=c==9||c==10||c==12||c==32
def k6 (s:ab):ab:=s.filter fun c=> !re c
theorem qj (a b:ab):k6 (a++b)=k6 a++k6 b:=List.filter_append ..
theorem MB (e:ab) (h:∀x∈e,128≤x.toNat):k6 e=e:=by
 unfold k6
 rw [List.filter_eq_self]
 intro c hc
 have:=h c hc
 unfold re
 simp only [Bool.not_eq_true',Bool.or_eq_false_iff,beq_eq_false_iff_ne]
 refine ⟨⟨⟨?_,?_⟩,?_⟩,?_⟩<;>(rintro rfl;exact absurd this (by decide))
theorem MC (n:Nat) (hn:n<128):k6 (dq (UInt8.ofNat n))=if re (UInt8.ofNat n)=true then [] else dq (UInt8.ofNat n):=by
 revert hn;revert n;decide
theorem MD (c:UInt8) (h:c.toNat<128):k6 (dq c)=if re c=true then [] else dq c:=by
 have:=MC c.toNat h
 rwa [UInt8.ofNat_toNat] at this
theorem Ej (l:ab) (hv:validD l=true):k6 (ba l)=ba (k6 l):=by
 refine oY (M:=fun l=>k6 (ba l)=ba (k6 l)) rfl (fun c t h _ ih=>?_) (fun r t hr h7 _ ih=>?_) l.length l (Nat.le_refl _) hv
 ·rw [dF c t (o5 c h),qj,MD c h,ih]
  have hc:k6 (c::t)=k6 [c]++k6 t:=qj [c] t
  rw [hc]
  by_cases hb:re c=true
  ·rw [if_pos hb,show k6 [c]=[] by unfold k6;simp [hb]];rfl
  ·rw [if_neg hb,show k6 [c]=[c] by unfold k6;simp [hb]]
   show _=ba (c::k6 t)
   rw [dF c _ (o5 c h)]
 ·have hh:=MB _ (oX r hr h7)
  rw [qj,hh]
  by_cases h9:r=65279
  ·subst h9
   rw [tp,iE,iE,qj,ih];rfl
  ·rw [mJ r hr h7 h9,mJ r hr h7 h9,qj,ih,hh]
theorem Aw (l:ab) (h:∀c∈l,c≠0∧c≠13):k6 l=eF l:=by
 unfold k6 eF
 refine List.filter_congr fun c hc=>?_
 obtain ⟨h0,h13⟩:=h c hc
 unfold oU iT re
 rw [show (c==0)=false from beq_eq_false_iff_ne.2 h0,show (c==13)=false from beq_eq_false_iff_ne.2 h13]
 simp
theorem OF (x:ab) (h:∀c∈x,c≠0∧c≠13):k6 (Av x)=k6 x:=by
 rw [Aw _ (FW x),Aw _ h]
 show eF (cP false io x).told=_
 rw [s9 false x io nD];rfl
theorem FX (d:Int) (hd:0≤d∧d≤2) (b:ab):k6 (bB d b)=k6 (bB d (bB d b))∧bB d (bB d (bB d b))=bB d (bB d b):=by
 have h1:=xV d hd b
 have h2:=xV d hd (bB d b)
 constructor
 ·have hv:=CB (bB d b)
  rw [h1] at hv
  rw [jk d hd (bB d b),h1,jk d hd b,Ej _ (CB b),Ej _ hv,OF _ (ts b).1]
 ·rw [jk d hd (bB d (bB d b)),h2,h1,JR,jk d hd (bB d b),h1]
theorem FY (d e:Int) (hd:0≤d∧d≤2) (he:0≤e∧e≤2) (a b:ab):bB d a=bB e a∧(bB d a=bB d b↔cT a=cT b):=by
 rw [jk d hd a,jk e he a,jk d hd b]
 exact ⟨rfl,fun h=>tq _ _ _ (Nat.le_refl _) (xT a) (xT b) h,fun h=>by rw [h]⟩
theorem CI (d:Int) (b:ab) (h:(cT b).length≤1000):nc (bB d b):=by
 by_cases hd:0≤d∧d≤2
 ·have hn:=tm d (cT b)
  have h3:=(j6 d hd b).2
  have hdr:kZ (ay (gi (bB d b)))=aQ (cT b):=by
   rw [h3.1,h3.2]
   have:=xU d hd b
   rwa [h3.1] at this
  refine ⟨by unfold bB;omega,?_,fun t ht=>?_⟩
  ·rw [hdr];have:=oG (cT b);omega
  ·rw [hdr] at ht;rw [ms _ t ht];omega
 ·have:bB d b=[]:=by unfold bB fC;rw [if_pos (by omega)]
  rw [this];exact iU [] (by decide)
theorem j7 (d:Int) (b:ab):(cT (bB d b)).length≤(cT b).length:=by
 by_cases hd:0≤d∧d≤2
 ·rw [xV d hd];exact Mz _
 ·have:bB d b=[]:=by unfold bB fC;rw [if_pos (by omega)]
  rw [this];exact Nat.zero_le _
end Go.Proofs.YtajpoodpbbbkfaaGreatDoor
