/-
  What is written of just signs: plain mathematics.
-/
import Derived.Test.YtajpoodpbbbkfaaGreatDoorSG
import Derived.Test.YtajpoodpbbbkfaaGreatDoorEscMath
namespace Go.Proofs.YtajpoodpbbbkfaaGreatDoor
open Go.RowKit Go.Lib
theorem As (c:UInt8) (h:128≤c.toNat):nK c=false∧c≠38:=by
 have hn:∀d:UInt8,d.toNat<128→c≠d:=fun d hd e=>by rw [e] at h;omega
 refine ⟨?_,hn 38 (by decide)⟩
 unfold nK
 simp [hn 60 (by decide),hn 62 (by decide),hn 34 (by decide),hn 39 (by decide),hn 0 (by decide),hn 13 (by decide)]
theorem tp:encodeRune ((65279:Nat):Int)=bw:=by decide
theorem vV (r:Nat) (h:bP r) (h9:r≠65279) (t:dp):hasPrefix (encodeRune (r:Int)++t) bw=false:=by
 rw [Bool.eq_false_iff]
 intro hp
 obtain ⟨u,hu⟩:=(wG _).1 hp
 have e:=fp r h t
 rw [hu,G7] at e
 exact h9 (congrArg Prod.fst e).symm
theorem mJ (r:Nat) (h:bP r) (h7:128≤r) (h9:r≠65279) (t:dp):ba (encodeRune (r:Int)++t)=encodeRune (r:Int)++ba t:=by
 have hm:=vV r h h9 t
 obtain ⟨x,xs,e,h1,h2⟩:=JE r h h7
 rw [e] at hm⊢
 rw [List.cons_append] at hm⊢
 unfold hasPrefix at hm
 obtain ⟨b1,b2⟩:=As x (by omega)
 rw [mH x _ hm,mI x b1 b2,FS xs (fun y hy=>by
  obtain ⟨g1,g2⟩:=h2 y hy
  obtain ⟨b3,b4⟩:=As y g1
  exact ⟨b3,b4,fun e=>by rw [e] at g2;exact absurd g2 (by decide)⟩) t]
 rfl
theorem Mw (c:UInt8) (h:c.toNat<128):validD (dq c)=true:=by
 unfold dq
 repeat' split
 all_goals first|decide|skip
 exact th _ fun d hd=>by rw [List.mem_singleton.1 hd];exact h
theorem o5 (c:UInt8) (h:c.toNat<128):c≠239:=fun e=>by rw [e] at h;exact absurd h (by decide)
theorem Mx (l:dp) (hv:validD l=true):validD (ba l)=true:=by
 refine oY (M:=fun l=>validD (ba l)=true) rfl (fun c t h7 _ ih=>?_) (fun r t h1 h2 _ ih=>?_) l.length l (Nat.le_refl _) hv
 ·rw [dF c t (o5 c h7)]
  exact gz _ _ (Mw c h7) ih
 ·by_cases h9:r=65279
  ·rw [h9,tp,iE]
   exact gz _ _ (by decide) ih
  ·rw [mJ r h1 h2 h9]
   exact gz _ _ (nJ _) ih
theorem FT (l:dp) (hv:validD l=true):hasPrefix (ba l) bw=false:=by
 have hlow:∀(c:UInt8) (u:dp),c≠239→hasPrefix (c::u) bw=false:=fun c u h=>gB c u h
 by_cases hne:l=[]
 ·subst hne;decide
 ·rcases ti l hne hv with ⟨c,t,rfl,h7,-⟩|⟨r,t,rfl,h1,h2,-⟩
  ·rw [dF c t (o5 c h7)]
   unfold dq
   repeat' split
   all_goals first|exact hlow _ _ (by decide)|skip
   ·rw [Bool.eq_false_iff];intro e
    obtain ⟨u,hu⟩:=(wG _).1 e
    exact absurd (List.cons.inj (List.cons.inj hu).2).1 (by decide)
   ·exact hlow _ _ (o5 c h7)
  ·by_cases h9:r=65279
   ·rw [h9,tp,iE]
    exact hlow _ _ (by decide)
   ·rw [mJ r h1 h2 h9]
    exact vV r h1 h9 _
theorem CG (d:Int) (hd:0≤d∧d≤2) (l:dp) (hv:validD l=true):validD (fC d l)=true∧gi (fC d l)=fC d l∧ay (fC d l)=fC d l∧ap (fC d l)=fC d l:=by
 have h1:=Mx l hv
 have h2:=FT l hv
 have hp:=tn d l
 have hno:∀c:UInt8,nK c=true→c∉fC d l:=fun c hc hm=>by rw [hp c hm] at hc;cases hc
 rw [o4 d l hd] at hno⊢
 have h3:validD ((if d=2∧l.head?=some 10 then [10] else [])++ba l)=true:=by
  split
  ·exact gz _ _ (by decide) h1
  ·exact h1
 have h4:hasPrefix ((if d=2∧l.head?=some 10 then [10] else [])++ba l) bw=false:=by
  split
  ·exact gB 10 _ (by decide)
  ·exact h2
 exact ⟨h3,by rw [gj _ h4,Ez _ h3],np _ (hno 13 (by decide)),gF _ (hno 0 (by decide))⟩
def nd:List UInt8:=[38,60,62,34,39,13]
theorem j5 (c:UInt8) (h0:c≠0):(c∈nd∧∃u,dq c=38::u)∨(c∉nd∧dq c=[c]):=by
 by_cases h:c∈nd
 ·refine .inl ⟨h,?_⟩
  simp only [nd,List.mem_cons,List.not_mem_nil,or_false] at h
  rcases h with rfl|rfl|rfl|rfl|rfl|rfl<;>exact ⟨_,rfl⟩
 ·refine .inr ⟨h,?_⟩
  simp only [nd,List.mem_cons,List.not_mem_nil,or_false,not_or] at h
  obtain ⟨a1,a2,a3,a4,a5,a6⟩:=h
  unfold dq
  rw [if_neg a1,if_neg a2,if_neg a3,if_neg a4,if_neg a5,if_neg a6,if_neg h0]
theorem JO (c d:UInt8) (hc:c≠0) (hd:d≠0) (x y:dp) (h:dq c++x=dq d++y):c=d∧x=y:=by
 rcases j5 c hc with ⟨c1,u,c2⟩|⟨c1,c2⟩
 ·rcases j5 d hd with ⟨d1,v,d2⟩|⟨d1,d2⟩
  ·clear c2 d2
   simp only [nd,List.mem_cons,List.not_mem_nil,or_false] at c1 d1
   rcases c1 with rfl|rfl|rfl|rfl|rfl|rfl<;>rcases d1 with rfl|rfl|rfl|rfl|rfl|rfl<;>first|(refine ⟨rfl,?_⟩;exact List.append_cancel_left h)|(exfalso;revert h;simp [dq])
  ·rw [c2,d2] at h
   exact absurd ((List.cons.inj h).1▸(by decide:(38:UInt8)∈nd)) d1
 ·rcases j5 d hd with ⟨d1,v,d2⟩|⟨d1,d2⟩
  ·rw [c2,d2] at h
   exact absurd ((List.cons.inj h).1.symm▸(by decide:(38:UInt8)∈nd)) c1
  ·rw [c2,d2] at h
   exact List.cons.inj h
theorem Eh (c:UInt8) (u:dp):dq c++u≠[]:=fun e=>by
 have:=(tl c).1
 rw [(List.append_eq_nil_iff.1 e).1] at this
 simp at this
theorem Au (c:UInt8) (hc:c≠0) (x y:dp):qg++x≠dq c++y:=fun h=>by
 rcases j5 c hc with ⟨c1,u,-⟩|⟨c1,c2⟩
 ·simp only [nd,List.mem_cons,List.not_mem_nil,or_false] at c1
  rcases c1 with rfl|rfl|rfl|rfl|rfl|rfl<;>(revert h;simp [dq,qg])
 ·rw [c2] at h
  exact c1 ((List.cons.inj h).1▸(by decide:(38:UInt8)∈nd))
theorem tq:∀(n:Nat) (a b:dp),a.length≤n→0∉a→0∉b→ba a=ba b→a=b
 |n,a,b,hn,ha,hb,h=>by
  rcases eP a with rfl|⟨t,rfl,e⟩|⟨c,t,rfl,-,e⟩
  ·rcases eP b with rfl|⟨u,rfl,f⟩|⟨d,u,rfl,-,f⟩
   ·rfl
   ·rw [f] at h;cases h
   ·rw [f] at h;exact absurd h.symm (Eh d _)
  ·rcases eP b with rfl|⟨u,rfl,f⟩|⟨d,u,rfl,-,f⟩
   ·rw [e] at h;cases h
   ·match n with
    |0=>simp [bw] at hn
    |n+1=>
     rw [e,f] at h
     rw [tq n t u (by simp [bw] at hn;omega) (fun hm=>ha (List.mem_append.2 (.inr hm))) (fun hm=>hb (List.mem_append.2 (.inr hm))) (List.append_cancel_left h)]
   ·rw [e,f] at h
    exact absurd h (Au d (fun e=>hb (by rw [e];exact .head _)) _ _)
  ·have hc0:c≠0:=fun e=>ha (by rw [e];exact .head _)
   rcases eP b with rfl|⟨u,rfl,f⟩|⟨d,u,rfl,-,f⟩
   ·rw [e] at h;exact absurd h (Eh c _)
   ·rw [e,f] at h
    exact absurd h.symm (Au c hc0 _ _)
   ·have hd0:d≠0:=fun e=>hb (by rw [e];exact .head _)
    rw [e,f] at h
    obtain ⟨g1,g2⟩:=JO c d hc0 hd0 _ _ h
    match n with
    |0=>simp at hn
    |n+1=>rw [g1,tq n t u (by simp at hn;omega) (fun hm=>ha (.tail _ hm)) (fun hm=>hb (.tail _ hm)) g2]
theorem FV (l:dp) (h0:0∉l) (u:dp) (h:ba l=10::u):l.head?=some 10:=by
 rcases eP l with rfl|⟨t,rfl,e⟩|⟨c,t,rfl,-,e⟩
 ·cases h
 ·rw [e] at h
  exact absurd (List.cons.inj h).1 (by decide)
 ·rw [e] at h
  have hc0:c≠0:=fun e=>h0 (by rw [e];exact .head _)
  rcases j5 c hc0 with ⟨-,v,c2⟩|⟨-,c2⟩
  ·rw [c2] at h;exact absurd (List.cons.inj h).1 (by decide)
  ·rw [c2] at h;rw [(List.cons.inj h).1];rfl
end Go.Proofs.YtajpoodpbbbkfaaGreatDoor
