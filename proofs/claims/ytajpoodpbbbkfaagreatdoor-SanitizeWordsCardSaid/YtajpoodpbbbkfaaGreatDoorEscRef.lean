/-
  What is written is read as just that, with all references read: plain mathematics.
-/
import Derived.Test.YtajpoodpbbbkfaaGreatDoorP6
import Derived.Test.YtajpoodpbbbkfaaGreatDoorEscMath
import Derived.KernelRfl
set_option maxRecDepth 100000
namespace Go.Proofs.YtajpoodpbbbkfaaGreatDoor
open Go.RowKit Go.Lib
theorem Eg:(∀q∈[[108,116,59],[103,116,59],[113,117,111,116,59]],(am q).isSome=true∧hasSuffix q [59]=true)∧dC (pr (am [108,116,59])) (nQ (am [108,116,59]))=[60]∧dC (pr (am [103,116,59])) (nQ (am [103,116,59]))=[62]∧dC (pr (am [113,117,111,116,59])) (nQ (am [113,117,111,116,59]))=[34]:=by
 refine ⟨fun q hq=>?_,by kernel_rfl,by kernel_rfl,by kernel_rfl⟩
 simp only [List.mem_cons,List.not_mem_nil,or_false] at hq
 rcases hq with rfl|rfl|rfl<;>exact ⟨by kernel_rfl,by kernel_rfl⟩
theorem qh (q z:ab) (attr:Bool) (hq:q∈[[108,116,59],[103,116,59],[113,117,111,116,59]]):dQ attr (38::(q++z))=dC (pr (am q)) (nQ (am q))++dQ attr z:=by
 obtain ⟨h1,h2⟩:=Eg.1 q hq
 obtain ⟨e1,e2⟩:=E5 q z attr h1 h2
 rw [kz,e1,e2,List.drop_left]
theorem qi (D z:ab) (attr:Bool) (hD:∀c∈D,co 10 c=true) (hne:D≠[]):dQ attr (38::35::(D++59::z))=(fh (go 10 D)).data.toList++dQ attr z:=by
 obtain ⟨e1,e2⟩:=Ik D (59::z) attr hD hne (.inr ⟨59,z,rfl,by decide⟩)
 rw [if_pos (show (59::z:ab).getD 0 0=59 from rfl)] at e1
 rw [kz,e1,e2]
 congr 2
 show (D++59::z).drop (D.length+1)=z
 rw [←List.drop_drop,List.drop_left];rfl
theorem Pm:(fh (go 10 [51,57])).data.toList=[39]∧(fh (go 10 [49,51])).data.toList=[13]∧(fh (go 10 [54,53,50,55,57])).data.toList=bw:=by refine ⟨?_,?_,?_⟩<;>kernel_rfl
theorem xS (attr:Bool):∀(n:Nat) (l:ab),l.length≤n→dQ attr (ba l)=ap l
 |0,l,h=>by
  have:l=[]:=List.eq_nil_of_length_eq_zero (by omega)
  subst this;rfl
 |n+1,l,h=>by
  obtain ⟨-,w1,w2,w3⟩:=Eg
  obtain ⟨f1,f2,f3⟩:=Pm
  rcases eP l with rfl|⟨t,rfl,e⟩|⟨c,t,rfl,-,e⟩
  ·rfl
  ·have ih:=xS attr n t (by rw [List.length_append] at h;simp [bw] at h;omega)
   rw [e,show qg++ba t=38::35::([54,53,50,55,57]++59::ba t) from rfl,qi _ _ attr (by decide) (by decide),f3,ih,kr]
   rfl
  ·have ih:=xS attr n t (by rw [List.length_cons] at h;omega)
   rw [e]
   by_cases c38:c=38
   ·subst c38
    have h1:=Ij (ba t) attr
    rw [show dq 38++ba t=38::([97,109,112,59]++ba t) from rfl]
    rw [kz,h1.1,h1.2,show ([97,109,112,59]++ba t:ab).drop 4=ba t from rfl,ih];rfl
   by_cases c60:c=60
   ·subst c60
    rw [show dq 60++ba t=38::([108,116,59]++ba t) from rfl]
    rw [qh _ _ attr (by decide),w1,ih];rfl
   by_cases c62:c=62
   ·subst c62
    rw [show dq 62++ba t=38::([103,116,59]++ba t) from rfl]
    rw [qh _ _ attr (by decide),w2,ih];rfl
   by_cases c34:c=34
   ·subst c34
    rw [show dq 34++ba t=38::([113,117,111,116,59]++ba t) from rfl]
    rw [qh _ _ attr (by decide),w3,ih];rfl
   by_cases c39:c=39
   ·subst c39
    rw [show dq 39++ba t=38::35::([51,57]++59::ba t) from rfl]
    rw [qi _ _ attr (by decide) (by decide),f1,ih];rfl
   by_cases c13:c=13
   ·subst c13
    rw [show dq 13++ba t=38::35::([49,51]++59::ba t) from rfl]
    rw [qi _ _ attr (by decide) (by decide),f2,ih];rfl
   by_cases c0:c=0
   ·subst c0
    rw [show dq 0++ba t=[239,191,189]++ba t from rfl]
    rw [jG attr _ _ (by decide),ih];rfl
   ·rw [mI c (by unfold nK;simp [c60,c62,c34,c39,c0,c13]) c38]
    show dQ attr (c::ba t)=_
    rw [iO attr c _ c38,ih,ap,if_neg c0]
theorem Mv (attr:Bool) (d:Int) (hd:0≤d∧d≤2) (l:ab):dQ attr (fC d l)=(if d=2∧l.head?=some 10 then [10] else [])++ap l:=by
 rw [o4 d l hd]
 split
 ·rw [jG attr _ _ (by decide),xS attr _ l (Nat.le_refl _)]
 ·rw [List.nil_append,List.nil_append,xS attr _ l (Nat.le_refl _)]
end Go.Proofs.YtajpoodpbbbkfaaGreatDoor
