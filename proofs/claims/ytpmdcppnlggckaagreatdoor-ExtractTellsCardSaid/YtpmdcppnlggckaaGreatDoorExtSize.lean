/-
  How long what bytes say may come to be: plain mathematics.
-/
import Derived.Test.YtpmdcppnlggckaaGreatDoorCrMath
namespace Go.Proofs.YtpmdcppnlggckaaGreatDoor
open Go.RowKit Go.Lib
theorem A9 (x:ab) (t:am) (h:t∈ba x):t.text.length≤x.length:=by rw [tl x t h];exact Nat.le_refl _
theorem tp:∀(f:Nat) (l:ab) (t:am),t∈pd f l→t.text.length≤9*l.length+3
 |0,_,t,h=>by cases h
 |f+1,l,t,h=>by
  unfold pd at h
  split at h
  ·cases h
  ·rcases List.mem_append.1 h with h1|h1
   ·have hn:=uJ l
    unfold jc at h1
    split at h1
    ·split at h1
     ·rcases List.mem_cons.1 h1 with h2|h2
      ·rw [h2];omega
      ·have:=(pB (dh (nx l).1.name) (nx l).1.name (l.drop (nx l).2.1)).2 t h2
       rw [List.length_drop] at this
       omega
     ·rw [List.mem_singleton.1 h1];omega
    ·cases h1
   ·have:=tp f _ t h1
    rw [List.length_drop] at this
    omega
theorem kx:∀(L:List am) (x:ab) (n:Nat),(∀t∈L,t.text.length≤n)→∀t∈cE x L,t.text.length≤x.length+sb L+n
 |[],x,n,_,t,h=>by
  rw [cE] at h
  have:=A9 x t h;omega
 |u::L,x,n,hn,t,h=>by
  rw [cE] at h
  have hu:=hn u (.head _)
  have hL:=fun v hv=>hn v (List.mem_cons_of_mem u hv)
  split at h
  ·rename_i hk
   have:=kx L _ n hL t h
   have hw:xI u=u.text.length:=by unfold xI;rw [if_pos hk]
   rw [List.length_append] at this
   rw [sb];omega
  ·rw [sb]
   rcases List.mem_append.1 h with h1|h1
   ·have:=A9 x t h1;omega
   ·rcases List.mem_cons.1 h1 with h2|h2
    ·rw [h2];omega
    ·have:=kx L [] n hL t h2
     rw [List.length_nil] at this
     omega
theorem zG (s:ab) (n:Nat) (h:s.length≤n):∀t∈na s,t.text.length≤12*n+3:=fun t ht=>by
 have h1:=kx (eH s) [] _ (tp s.length s) t ht
 have h2:sb (eH s)≤_:=uW _ _
 have h3:=(li s).2
 rw [List.length_nil] at h1
 omega
theorem CO (s:ab):(na s).length≤3*s.length:=Nat.le_trans (Fs _) (AY _ _)
theorem CQ (l:ab) (h:l.length≤300):(gG l).length≤900∧(aN (gG l)).length≤900∧(na (aN (gG l))).length≤2700∧(∀t∈na (aN (gG l)),t.text.length≤10803)∧(qX l).length≤900:=by
 have h1:=(li (gG l)).1
 have h2:=zD l
 have h3:=sH (gG l)
 have h4:=CO (aN (gG l))
 have h5:=IP l
 exact ⟨by omega,by omega,by omega,zG _ 900 (by omega),by omega⟩
structure FX (l:ab):Prop where
 size:l.length≤100000
 few:(na (aN (gG l))).length≤4096
 text:∀t∈na (aN (gG l)),t.text.length≤65536
theorem zH (l:ab) (h:l.length≤300):FX l:=by
 obtain ⟨-,-,h3,h4,-⟩:=CQ l h
 exact ⟨by omega,by omega,fun t ht=>by have:=h4 t ht;omega⟩
theorem xJ (l:ab):(gG l).length≤3*l.length∧(aN (gG l)).length≤3*l.length:=by
 have h1:=(li (gG l)).1
 have h2:=zD l
 have h3:=sH (gG l)
 omega
end Go.Proofs.YtpmdcppnlggckaaGreatDoor
