/-
  How a text is written as markup: plain mathematics.
-/
import Derived.Test.YtajpoodpbbbkfaaGreatDoorP1
import Derived.Test.YtajpoodpbbbkfaaGreatDoorP4
namespace Go.Proofs.YtajpoodpbbbkfaaGreatDoor
open Go.RowKit Go.Lib
def dq (c:UInt8):List UInt8:=
 if c=38 then [38,97,109,112,59] else if c=60 then [38,108,116,59] else if c=62 then [38,103,116,59] else if c=34 then [38,113,117,111,116,59]
 else if c=39 then [38,35,51,57,59] else if c=13 then [38,35,49,51,59] else if c=0 then [239,191,189] else [c]
def qg:List UInt8:=[38,35,54,53,50,55,57,59]
def tj:Nat→List UInt8→List UInt8
 |0,_=>[]
 |_,[]=>[]
 |f+1,c::t=>if bw.isPrefixOf (c::t)=true then qg++tj f (t.drop 2) else dq c++tj f t
def ba (l:List UInt8):List UInt8:=tj l.length l
def fC (d:Int) (l:List UInt8):List UInt8:=if d<0∨2<d then [] else (if d=2∧l.head?=some 10 then [10] else [])++ba l
theorem tk:∀(f g:Nat) (l:List UInt8),l.length≤f→l.length≤g→tj f l=tj g l
 |0,0,_,_,_=>rfl
 |0,g+1,[],_,_=>rfl
 |f+1,0,[],_,_=>rfl
 |f+1,g+1,[],_,_=>rfl
 |0,_,c::z,h,_=>absurd h (by simp)
 |_,0,c::z,_,h=>absurd h (by simp)
 |f+1,g+1,c::z,h1,h2=>by
  rw [List.length_cons] at h1 h2
  rw [tj,tj,tk f g z (by omega) (by omega),tk f g (z.drop 2) (by rw [List.length_drop];omega) (by rw [List.length_drop];omega)]
theorem Ar:ba []=[]:=rfl
theorem mH (c:UInt8) (t:List UInt8) (h:bw.isPrefixOf (c::t)=false):ba (c::t)=dq c++ba t:=by
 unfold ba
 rw [List.length_cons,tj,if_neg (by rw [h];exact Bool.false_ne_true)]
theorem iE (t:List UInt8):ba (bw++t)=qg++ba t:=by
 have h:bw.isPrefixOf (239::187::191::t)=true:=List.isPrefixOf_iff_prefix.2 ⟨t,rfl⟩
 unfold ba
 show tj (t.length+1+1+1) (239::187::191::t)=_
 rw [tj,if_pos h]
 show qg++tj (t.length+1+1) t=_
 rw [tk (t.length+1+1) t.length t (by omega) (Nat.le_refl _)]
theorem gB (c:UInt8) (t:List UInt8) (h:c≠239):bw.isPrefixOf (c::t)=false:=by
 rw [Bool.eq_false_iff];intro e
 obtain ⟨u,hu⟩:=List.isPrefixOf_iff_prefix.1 e
 exact h (List.cons.inj hu).1.symm
theorem dF (c:UInt8) (t:List UInt8) (h:c≠239):ba (c::t)=dq c++ba t:=mH c t (gB c t h)
theorem eP (l:List UInt8):l=[]∨(∃t,l=bw++t∧ba l=qg++ba t)∨∃c t,l=c::t∧bw.isPrefixOf l=false∧ba l=dq c++ba t:=by
 cases l with
 |nil=>exact .inl rfl
 |cons c t=>
  cases h:bw.isPrefixOf (c::t)
  ·exact .inr (.inr ⟨c,t,rfl,rfl,mH c t h⟩)
  ·obtain ⟨u,hu⟩:=List.isPrefixOf_iff_prefix.1 h
   exact .inr (.inl ⟨u,hu.symm,by rw [←hu,iE]⟩)
theorem tl (c:UInt8):1≤(dq c).length∧(dq c).length≤6:=by
 unfold dq
 repeat' split
 all_goals first|decide|exact ⟨Nat.le_refl 1,by show 1≤6;decide⟩
theorem lQ:∀(n:Nat) (l:List UInt8),l.length≤n→(ba l).length≤6*l.length
 |0,l,h=>by
  have:l=[]:=List.eq_nil_of_length_eq_zero (by omega)
  subst this;exact Nat.le_refl _
 |n+1,l,h=>by
  rcases eP l with rfl|⟨t,rfl,e⟩|⟨c,t,rfl,-,e⟩
  ·exact Nat.le_refl _
  ·rw [List.length_append] at h
   have ih:=lQ n t (by simp [bw] at h;omega)
   rw [e,List.length_append,List.length_append]
   simp only [qg,bw,List.length_cons,List.length_nil]
   omega
  ·rw [List.length_cons] at h
   have ih:=lQ n t (by omega)
   have:=tl c
   rw [e,List.length_append,List.length_cons]
   omega
theorem tm (d:Int) (l:List UInt8):(fC d l).length≤6*l.length:=by
 unfold fC
 split
 ·exact Nat.zero_le _
 ·have h:=lQ _ l (Nat.le_refl _)
  split
  ·rename_i h2
   cases l with
   |nil=>cases h2.2
   |cons c t=>
    simp only [List.head?_cons,Option.some.injEq] at h2
    have e:=dF c t (by rw [h2.2];decide)
    have ht:=lQ _ t (Nat.le_refl _)
    rw [List.length_append,e,List.length_append,h2.2,List.length_cons]
    have:(dq 10).length=1:=by decide
    simp only [List.length_cons,List.length_nil]
    omega
  ·rw [List.nil_append];exact h
theorem o4 (d:Int) (l:List UInt8) (h:0≤d∧d≤2):fC d l=(if d=2∧l.head?=some 10 then [10] else [])++ba l:=by
 unfold fC;rw [if_neg (by omega)]
def nK (c:UInt8):Bool:=c==60||c==62||c==34||c==39||c==0||c==13
theorem CF (c:UInt8):∀x∈dq c,nK x=false:=by
 unfold dq
 repeat' split
 all_goals first|decide|skip
 rename_i h1 h2 h3 h4 h5 h6 h7
 intro x hx
 rw [List.mem_singleton.1 hx]
 unfold nK
 simp [h2,h3,h4,h5,h6,h7]
theorem nL:∀(n:Nat) (l:List UInt8),l.length≤n→∀x∈ba l,nK x=false
 |0,l,h,x,hx=>by
  have:l=[]:=List.eq_nil_of_length_eq_zero (by omega)
  subst this;cases hx
 |n+1,l,h,x,hx=>by
  rcases eP l with rfl|⟨t,rfl,e⟩|⟨c,t,rfl,-,e⟩
  ·cases hx
  ·rw [List.length_append] at h
   rw [e] at hx
   rcases List.mem_append.1 hx with hx|hx
   ·exact (show ∀x∈qg,nK x=false by decide) x hx
   ·exact nL n t (by simp [bw] at h;omega) x hx
  ·rw [List.length_cons] at h
   rw [e] at hx
   rcases List.mem_append.1 hx with hx|hx
   ·exact CF c x hx
   ·exact nL n t (by omega) x hx
theorem tn (d:Int) (l:List UInt8):∀x∈fC d l,nK x=false:=by
 intro x hx
 unfold fC at hx
 split at hx
 ·cases hx
 ·rcases List.mem_append.1 hx with hx|hx
  ·split at hx
   ·rw [List.mem_singleton.1 hx];decide
   ·cases hx
  ·exact nL _ l (Nat.le_refl _) x hx
theorem mI (c:UInt8) (h:nK c=false) (h38:c≠38):dq c=[c]:=by
 unfold nK at h
 simp only [Bool.or_eq_false_iff,beq_eq_false_iff_ne] at h
 obtain ⟨⟨⟨⟨⟨h60,h62⟩,h34⟩,h39⟩,h0⟩,h13⟩:=h
 unfold dq
 rw [if_neg h38,if_neg h60,if_neg h62,if_neg h34,if_neg h39,if_neg h13,if_neg h0]
theorem FS (l:List UInt8) (h:∀c∈l,nK c=false∧c≠38∧c≠239) (t:List UInt8):ba (l++t)=l++ba t:=by
 induction l with
 |nil=>rfl
 |cons c l ih=>
  obtain ⟨h1,h2,h3⟩:=h c (.head _)
  rw [List.cons_append,dF c _ h3,mI c h1 h2,ih (fun x hx=>h x (.tail _ hx))];rfl
end Go.Proofs.YtajpoodpbbbkfaaGreatDoor
