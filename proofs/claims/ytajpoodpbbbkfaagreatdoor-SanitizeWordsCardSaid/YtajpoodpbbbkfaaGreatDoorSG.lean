/-
  Texts laid together: SgBase, SgMath, CrMath, ExtMath, ExtSize.
-/
import Derived.Test.YtajpoodpbbbkfaaGreatDoorP1
import Derived.Test.YtajpoodpbbbkfaaGreatDoorP4
import Derived.Test.YtajpoodpbbbkfaaGreatDoorDA
import Derived.Test.YtajpoodpbbbkfaaGreatDoorRA
namespace Go.Proofs.YtajpoodpbbbkfaaGreatDoor
open Go.RowKit Go.Lib
abbrev dp:=List UInt8
theorem gz (a b:dp) (ha:validD a=true) (hb:validD b=true):validD (a++b)=true:=by
 rw [nZ b a.length a (Nat.le_refl _) ha];exact hb
theorem p9 (c:UInt8) (t:dp) (h:c.toNat<128):validD (c::t)=validD t:=by
 have e:decodeL (c::t)=(c.toNat,1):=decodeL_ascii c t h
 have hk:brk (c::t)=false:=by unfold brk;rw [e];simp;omega
 rw [ek _ (by simp),hk,e];rfl
theorem th (l:dp) (h:∀c∈l,c.toNat<128):validD l=true:=by
 induction l with
 |nil=>rfl
 |cons c t ih=>rw [p9 c t (h c (.head _))];exact ih (fun x hx=>h x (.tail _ hx))
theorem JD (l:dp) (k:Nat) (hv:validD l=true) (h:l.drop k=[]∨((l.drop k).getD 0 0).toNat<128):validD (l.take k)=true∧validD (l.drop k)=true:=by
 have:=rM (l.drop k) h (l.take k).length (l.take k) (Nat.le_refl _)
 rw [List.take_append_drop,hv] at this
 simpa using this.symm
theorem j4 (l:dp) (k:Nat) (hv:validD l=true) (h1:1≤k) (h2:k≤l.length) (h:(l.getD (k-1) 0).toNat<128):validD (l.drop k)=true:=by
 have hl:k-1<l.length:=by omega
 have hd:l.drop (k-1)=l[k-1]::l.drop k:=by rw [List.drop_eq_getElem_cons hl,show k-1+1=k by omega]
 have hg:l.getD (k-1) 0=l[k-1]:=by rw [List.getD_eq_getElem?_getD,List.getElem?_eq_getElem hl];rfl
 rw [hg] at h
 have:=(JD l (k-1) hv (.inr (by rw [hd];exact h))).2
 rw [hd,p9 _ _ h] at this
 exact this
theorem oX (r:Nat) (h:bP r) (h7:128≤r):∀x∈encodeRune (r:Int),128≤x.toNat:=by
 unfold bP at h
 by_cases h2:r≤2047
 ·rw [encodeRune,encodeRuneZ_two (by omega) (by omega)]
  intro x hx
  simp only [List.map_cons,List.map_nil,List.mem_cons,List.not_mem_nil,or_false] at hx
  rcases hx with rfl|rfl<;>(rw [eU _ (by omega) (by omega)];omega)
 by_cases h3:r≤65535
 ·rw [encodeRune,encodeRuneZ_three (by omega)]
  intro x hx
  simp only [List.map_cons,List.map_nil,List.mem_cons,List.not_mem_nil,or_false] at hx
  rcases hx with rfl|rfl|rfl<;>(rw [eU _ (by omega) (by omega)];omega)
 ·rw [encodeRune,encodeRuneZ_four (by omega) (by omega)]
  intro x hx
  simp only [List.map_cons,List.map_nil,List.mem_cons,List.not_mem_nil,or_false] at hx
  rcases hx with rfl|rfl|rfl|rfl<;>(rw [eU _ (by omega) (by omega)];omega)
theorem D4 (r:Nat) (h7:r<128):∃c:UInt8,encodeRune (r:Int)=[c]∧c.toNat=r:=by
 refine ⟨(r:Int).toNat.toUInt8,?_,?_⟩
 ·rw [encodeRune,encodeRuneZ_one (by omega) (by omega)];rfl
 ·rw [eU _ (by omega) (by omega)];omega
theorem JE (r:Nat) (h:bP r) (h7:128≤r):∃x xs,encodeRune (r:Int)=x::xs∧192≤x.toNat∧∀y∈xs,128≤y.toNat∧y.toNat<192:=by
 unfold bP at h
 by_cases h2:r≤2047
 ·rw [encodeRune,encodeRuneZ_two (by omega) (by omega)]
  refine ⟨_,_,rfl,by rw [eU _ (by omega) (by omega)];omega,fun y hy=>?_⟩
  simp only [List.map_cons,List.map_nil,List.mem_cons,List.not_mem_nil,or_false] at hy
  rw [hy,eU _ (by omega) (by omega)];omega
 by_cases h3:r≤65535
 ·rw [encodeRune,encodeRuneZ_three (by omega)]
  refine ⟨_,_,rfl,by rw [eU _ (by omega) (by omega)];omega,fun y hy=>?_⟩
  simp only [List.map_cons,List.map_nil,List.mem_cons,List.not_mem_nil,or_false] at hy
  rcases hy with rfl|rfl<;>(rw [eU _ (by omega) (by omega)];omega)
 ·rw [encodeRune,encodeRuneZ_four (by omega) (by omega)]
  refine ⟨_,_,rfl,by rw [eU _ (by omega) (by omega)];omega,fun y hy=>?_⟩
  simp only [List.map_cons,List.map_nil,List.mem_cons,List.not_mem_nil,or_false] at hy
  rcases hy with rfl|rfl|rfl<;>(rw [eU _ (by omega) (by omega)];omega)
theorem nJ (m:Int):validD (encodeRune m)=true:=by
 obtain ⟨r,hr,e,-⟩:=G5 m
 have h1:=kn r hr []
 rw [List.append_nil] at h1
 rw [e,h1];rfl
theorem ti (l:dp) (hne:l≠[]) (hv:validD l=true):(∃c t,l=c::t∧c.toNat<128∧validD t=true)∨(∃(r:Nat) (t:dp),l=encodeRune (r:Int)++t∧bP r∧128≤r∧validD t=true):=by
 rw [ek l hne] at hv
 cases hk:brk l with
 |true=>rw [hk] at hv;simp at hv
 |false=>
  rw [hk,if_neg (by simp)] at hv
  have he:=nX l hne hk
  have hs:=ic l hne
  by_cases h7:(decodeL l).1<128
  ·obtain ⟨c,e1,e2⟩:=D4 _ h7
   rw [e1] at he
   exact .inl ⟨c,_,he,by omega,hv⟩
  ·exact .inr ⟨_,_,he,hs,by omega,hv⟩
theorem Mi (l:dp) (hne:l≠[]) (hv:validD l=true):(∃c t,l=c::t∧c.toNat<128∧validD t=true)∨(∃e t,l=e++t∧e≠[]∧validD e=true∧(∀x∈e,128≤x.toNat)∧validD t=true):=by
 rcases ti l hne hv with h|⟨r,t,e,h1,h2,h3⟩
 ·exact .inl h
 ·exact .inr ⟨_,t,e,wF _,nJ _,oX r h1 h2,h3⟩
theorem oY {M:dp→Prop} (h0:M []) (hlow:∀c t,c.toNat<128→validD t=true→M t→M (c::t)) (hhigh:∀(r:Nat) (t:dp),bP r→128≤r→validD t=true→M t→M (encodeRune (r:Int)++t)):∀(n:Nat) (l:dp),l.length≤n→validD l=true→M l
 |n,[],_,_=>h0
 |0,c::t,h,_=>absurd h (by simp)
 |n+1,c::t,h,hv=>by
  rcases ti (c::t) (by simp) hv with ⟨d,u,e,h7,hu⟩|⟨r,u,he,h1,h2,hu⟩
  ·rw [e]
   have:u.length≤n:=by rw [e,List.length_cons] at h;omega
   exact hlow d u h7 hu (oY h0 hlow hhigh n u this hu)
  ·rw [he]
   have hp:=(eL (r:Int)).1
   have:u.length≤n:=by rw [he,List.length_append] at h;omega
   exact hhigh r u h1 h2 hu (oY h0 hlow hhigh n u this hu)
theorem Cv {M:dp→Prop} (h0:M []) (hlow:∀c t,c.toNat<128→validD t=true→M t→M (c::t)) (hhigh:∀e t,e≠[]→validD e=true→(∀x∈e,128≤x.toNat)→validD t=true→M t→M (e++t)) (n:Nat) (l:dp) (h:l.length≤n) (hv:validD l=true):M l:=
 oY h0 hlow (fun r t h1 h2 h3 h4=>hhigh _ t (wF _) (nJ _) (oX r h1 h2) h3 h4) n l h hv
theorem lO (e:dp) (h:∀x∈e,128≤x.toNat) (c:UInt8) (hc:c.toNat<128):c∉e:=fun hm=>by
 have:=h c hm;omega
theorem xL (m:Int) (h:m≠0):0∉encodeRune m:=by
 obtain ⟨r,hr,e,h1⟩:=G5 m
 have hr0:r≠0:=by rcases h1 with ⟨-,-,h2⟩|⟨-,h2⟩<;>omega
 rw [e]
 by_cases h7:r<128
 ·obtain ⟨c,e1,e2⟩:=D4 r h7
  rw [e1,List.mem_singleton]
  rintro rfl
  exact hr0 (by rw [←e2];rfl)
 ·exact lO _ (oX r hr (by omega)) 0 (by decide)
theorem Ag (l:dp) (hv:validD l=true):validD (ap l)=true:=by
 refine Cv (M:=fun l=>validD (ap l)=true) rfl (fun c t h7 _ ih=>?_) (fun e t _ h1 h2 _ ih=>?_) l.length l (Nat.le_refl _) hv
 ·rw [ap]
  split
  ·exact (rO (ap t)).trans ih
  ·rw [p9 _ _ h7];exact ih
 ·rw [kr,gF e (lO e h2 0 (by decide))]
  exact gz _ _ h1 ih
theorem Mj (l:dp) (hv:validD l=true):validD (ay l)=true:=by
 refine Cv (M:=fun l=>validD (ay l)=true) rfl (fun c t h7 _ ih=>?_) (fun e t hne h1 h2 _ ih=>?_) l.length l (Nat.le_refl _) hv
 ·rw [ay]
  split
  ·rw [p9 _ _ h7];exact ih
  ·split
   ·exact ih
   ·rw [p9 _ _ (by decide)];exact ih
 ·rw [vd e t (fun hx=>lO e h2 13 (by decide) (List.mem_of_getLast? hx.1)),np e (lO e h2 13 (by decide))]
  exact gz _ _ h1 ih
end Go.Proofs.YtajpoodpbbbkfaaGreatDoor
namespace Go.Proofs.YtajpoodpbbbkfaaGreatDoor
open Go.RowKit Go.Lib
theorem Ox (n:Int):q6 n≠0:=by
 unfold q6
 by_cases h:n=0
 ·rw [if_pos h];decide
 ·rw [if_neg h]
  by_cases h1:128≤n∧n<160
  ·rw [if_pos h1]
   obtain ⟨k,hk⟩:∃k:Nat,(n-128).toNat=k:=⟨_,rfl⟩
   rw [hk]
   have hk2:k<32:=by omega
   exact (show ∀k,k<32→qY.getD k 0≠0 by decide) k hk2
  ·rw [if_neg h1];exact h
theorem Ah:∀(l:ab) (n:Nat),0<n→0<l.foldl gd n
 |[],_,h=>h
 |c::l,n,h=>by
  rw [List.foldl_cons]
  exact Ah l _ (by unfold gd;omega)
theorem D6:∀(l:ab) (n:Nat),(∀c∈l,kt c=true)→(∃c∈l,c≠48)→0<l.foldl gd n
 |[],_,_,⟨c,h,_⟩=>by cases h
 |d::l,n,hx,⟨c,hc,h48⟩=>by
  rw [List.foldl_cons]
  have h1:=dB d (hx d (.head _))
  by_cases hd:d=48
  ·rcases List.mem_cons.1 hc with h|h
   ·exact absurd (h.trans hd) h48
   ·exact D6 l _ (fun x hx'=>hx x (.tail _ hx')) ⟨c,h,h48⟩
  ·refine Ah l _ ?_
   have h2:d.toNat≠48:=fun e=>hd (UInt8.toNat_inj.1 e)
   unfold gd
   rcases h1.2.2.2.2 with ⟨a,b,e⟩|⟨a,b,e⟩<;>omega
theorem Pj (q:ab) (h:(am q).isSome=true):pr (am q)≠0:=by
 obtain ⟨r,hr⟩:=Option.isSome_iff_exists.1 h
 have hrow:=fH _ (fI hr)
 have:=D6 (fx r) 0 hrow.firHex hrow.firPos
 rw [hr]
 show ew (fx r)≠0
 unfold ew;omega
theorem Mk (q:ab) (h:(am q).isSome=true):validD (dC (pr (am q)) (nQ (am q)))=true∧0∉dC (pr (am q)) (nQ (am q)):=by
 have ha:=Pj q h
 unfold dC
 by_cases hb:nQ (am q)=0
 ·rw [if_pos hb,List.append_nil]
  exact ⟨nJ _,xL _ (by omega)⟩
 ·rw [if_neg hb]
  refine ⟨gz _ _ (nJ _) (nJ _),?_⟩
  rw [List.mem_append,not_or]
  exact ⟨xL _ (by omega),xL _ (by omega)⟩
theorem JF (p:UInt8→Bool):∀(l:ab) (x:UInt8),x∈l.takeWhile p→p x=true
 |[],x,h=>by cases h
 |c::l,x,h=>by
  rw [List.takeWhile_cons] at h
  split at h
  ·rename_i hc
   rcases List.mem_cons.1 h with rfl|h
   ·exact hc
   ·exact JF p l x h
  ·cases h
theorem Ml (b:Nat) (c:UInt8) (h:co b c=true):c.toNat<128:=by
 unfold co at h
 rw [decide_eq_true_iff] at h
 have h1:=h.1
 unfold cq at h1
 split at h1
 ·omega
 ·split at h1
  ·omega
  ·split at h1<;>omega
theorem JG (c:UInt8) (h:mY c=true):c.toNat<128∧48≤c.toNat:=by
 unfold mY at h
 simp only [Bool.or_eq_true,Bool.and_eq_true,Nat.ble_eq] at h
 omega
theorem oZ (l:ab) (i:Nat) (h:i<l.length):l.getD i 0=l[i]:=by rw [List.getD_eq_getElem?_getD,List.getElem?_eq_getElem h];rfl
theorem xM (z:ab):∀x∈z.take (ce z),x.toNat<128:=by
 intro x hx
 unfold ce at hx
 by_cases h:aX z 0=true
 ·rw [if_pos h] at hx
  obtain ⟨i,hi,rfl⟩:=List.getElem_of_mem hx
  rw [List.length_take] at hi
  rw [List.getElem_take]
  have hlen:i<z.length:=by omega
  have hend:i<cH z 0:=by omega
  unfold aX at h
  rw [decide_eq_true_iff] at h
  obtain ⟨-,h35,-⟩:=h
  rw [show (0:Int).toNat=0 from rfl] at h35
  rw [wX] at hend
  rw [←oZ z i hlen]
  by_cases h0:i=0
  ·subst h0;rw [h35];decide
  by_cases hfr:i<bD z 0
  ·unfold bD at hfr
   by_cases hX:nR z (0+1)=true
   ·rw [if_pos hX] at hfr
    obtain rfl:i=1:=by omega
    unfold nR at hX
    rw [decide_eq_true_iff,Nat.zero_add] at hX
    rcases hX with e|e<;>(rw [e];decide)
   ·rw [if_neg hX] at hfr;omega
  ·by_cases hd:i<bD z 0+(aD z 0).length
   ·obtain ⟨j,rfl⟩:∃j,i=bD z 0+j:=⟨i-bD z 0,by omega⟩
    have hj:j<(aD z 0).length:=by omega
    have h1:(aD z 0)[j]∈aD z 0:=List.getElem_mem hj
    have h2:(aD z 0)[j]=(z.drop (bD z 0))[j]'(by rw [List.length_drop];omega):=by
     have hp:aD z 0<+:z.drop (bD z 0):=List.takeWhile_prefix _
     exact hp.getElem hj
    rw [List.getElem_drop] at h2
    rw [oZ z _ hlen,←h2]
    exact Ml _ _ (JF (co (cW (nR z (0+1)))) _ _ h1)
   ·split at hend
    ·rename_i h59
     obtain rfl:i=bD z 0+(aD z 0).length:=by omega
     rw [h59];decide
    ·omega
 ·rw [if_neg h] at hx
  rcases gE af z with h0|⟨r,hr,hp,e⟩
  ·rw [h0] at hx;cases hx
  ·rw [e,←List.prefix_iff_eq_take.1 hp] at hx
   rcases y7 r hr x hx with h1|h1
   ·exact (JG x h1).1
   ·rw [h1];decide
theorem Mm (z:ab):0∉z.take (aL af z):=fun hx=>by
 rcases gE af z with h0|⟨r,hr,hp,e⟩
 ·rw [h0] at hx;cases hx
 ·rw [e,←List.prefix_iff_eq_take.1 hp] at hx
  rcases y7 r hr 0 hx with h1|h1
  ·exact absurd h1 (by decide)
  ·exact absurd h1 (by decide)
theorem D7 (z:ab) (attr:Bool):validD (cO z attr)=true∧0∉cO z attr:=by
 unfold cO
 by_cases h:aX z 0=true
 ·rw [if_pos h]
  exact ⟨nJ _,xL _ (Ox _)⟩
 ·rw [if_neg h]
  by_cases h0:aL af z=0
  ·rw [if_pos h0];exact ⟨by decide,by decide⟩
  ·rw [if_neg h0]
   by_cases hk:mZ z attr=true
   ·rw [if_pos hk]
    have h1:=xM z
    unfold ce at h1
    rw [if_neg h] at h1
    refine ⟨th _ fun c hc=>?_,?_⟩
    ·rcases List.mem_cons.1 hc with rfl|hc
     ·decide
     ·exact h1 c hc
    ·rw [List.mem_cons,not_or]
     exact ⟨by decide,Mm z⟩
   ·rw [if_neg hk]
    exact Mk _ (wY z h0).1
theorem Oy (z:ab) (hv:validD z=true):validD (z.drop (ce z))=true:=by
 by_cases h0:ce z=0
 ·rw [h0];exact hv
 ·have hle:=oh z
  refine j4 z (ce z) hv (by omega) hle ?_
  have hl:ce z-1<z.length:=by omega
  rw [oZ z _ hl]
  refine xM z _ ?_
  rw [List.mem_iff_getElem]
  exact ⟨ce z-1,by rw [List.length_take];omega,by rw [List.getElem_take]⟩
theorem Ai (attr:Bool):∀(n:Nat) (l:ab),l.length≤n→validD l=true→validD (dQ attr l)=true
 |_,[],_,_=>rfl
 |0,c::z,h,_=>absurd h (by simp)
 |n+1,c::z,h,hv=>by
  rcases Mi (c::z) (by simp) hv with ⟨d,u,e,h7,hu⟩|⟨e,u,he,hne,h1,h2,hu⟩
  ·rw [e]
   have hn:u.length≤n:=by rw [e,List.length_cons] at h;omega
   by_cases h38:d=38
   ·rw [h38,kz]
    exact gz _ _ (D7 u attr).1 (Ai attr n _ (by rw [List.length_drop];omega) (Oy u hu))
   ·rw [iO attr d u h38,p9 _ _ h7]
    exact Ai attr n u hn hu
  ·rw [he]
   have hp:=List.length_pos_iff.2 hne
   have hn:u.length≤n:=by rw [he,List.length_append] at h;omega
   rw [jG attr u e (lO e h2 38 (by decide))]
   exact gz _ _ h1 (Ai attr n u hn hu)
theorem Oz (refs:Bool) (l:ab) (hv:validD l=true):validD (kF refs l)=true:=by
 unfold kF
 split
 ·exact Ag _ (Ai false _ l (Nat.le_refl _) hv)
 ·exact Ag _ hv
def xO (t:aq):Prop:=t.kind=0→validD t.text=true
theorem Mn (x:ab) (h:validD x=true):∀t∈aQ x,xO t:=fun t ht _=>by rw [ms x t ht];exact h
theorem JH (l:ab) (t:aq) (n:Nat) (hr:gR l=some (t,n)) (hv:validD l=true):xO t∧validD (l.drop n)=true:=by
 obtain ⟨h1,h2,h3,-⟩:=eB l t n hr
 exact ⟨fun _=>by rw [sB l t n hr];rfl,j4 l n hv (by omega) h2 (by rw [h3];decide)⟩
theorem Pk (l : ab) (hv : validD l = true) : xO (nx l).1 ∧ validD (l.drop (nx l).2.1) = true := by
  rcases fc l with ⟨h, -, e⟩ | ⟨h, t, n, hr, e⟩ | ⟨-, h, e⟩ | ⟨-, -, h, e⟩ | ⟨-, -, -, h, e⟩ | ⟨-, -, -, -, -, -, h, e⟩ | ⟨-, -, -, -, -, h, e⟩
  all_goals rw [e]; simp only
  · exact ⟨fun _ => rfl, by rw [List.drop_length]; rfl⟩
  · exact JH l t n hr hv
  · obtain ⟨a, b, -, d⟩ := pR l [] h
    refine ⟨fun hk => absurd hk (show ¬ (3 : Int) = 0 by decide), ?_⟩
    by_cases hn : (fB l).2 = l.length
    · rw [hn, List.drop_length]; rfl
    · exact j4 l _ hv (by omega) b (by rw [(d hn).1]; decide)
  · refine ⟨fun hk => absurd hk (show ¬ (4 : Int) = 0 by decide), ?_⟩
    split
    · rename_i hlt
      refine j4 l _ hv (by omega) (by omega) ?_
      rw [Nat.add_sub_cancel]
      have h1 := Fi (· != 62) l 9
      have h2 : l.drop (cw (· != 62) l 9) = l[cw (· != 62) l 9] :: l.drop (cw (· != 62) l 9 + 1) := List.drop_eq_getElem_cons hlt
      rw [oZ l _ hlt]
      rw [h1] at h2
      have h3 : ((l.drop 9).dropWhile (· != 62)).head? = some l[cw (· != 62) l 9] := by rw [h2]; rfl
      have h4 := List.head?_dropWhile_not (· != 62) (l.drop 9)
      rw [h3] at h4
      simp only [bne_eq_false_iff_eq] at h4
      rw [h4]; decide
    · rw [List.drop_length]; rfl
  · refine ⟨fun _ => rfl, ?_⟩
    obtain ⟨t, rfl⟩ := List.isPrefixOf_iff_prefix.1 h
    exact j4 _ 3 hv (by decide) (by simp) (by show (62 : UInt8).toNat < 128; decide)
  · rw [h]; exact ⟨fun _ => rfl, rfl⟩
  · have hd : l.drop (bJ l) = [] ∨ ((l.drop (bJ l)).getD 0 0).toNat < 128 := by
      by_cases hlt : bJ l < l.length
      · obtain ⟨t, ht⟩ := rB _ (DP l hlt)
        exact .inr (by rw [ht]; show (60 : UInt8).toNat < 128; decide)
      · exact .inl (List.drop_eq_nil_of_le (by omega))
    obtain ⟨h1, h2⟩ := JD l (bJ l) hv hd
    exact ⟨fun _ => Ai false _ _ (Nat.le_refl _) h1, h2⟩
theorem OA (st:Int) (nm l:ab) (h:aG st nm l<l.length):∃t,l.drop (aG st nm l)=60::t:=by
 have hR:∃q,cb q (l.drop (aG st nm l))=true:=by
  unfold aG at h⊢
  split
  ·rename_i h1
   rw [if_pos h1] at h
   exact ⟨nm,(oC nm l).2.2 h⟩
  ·rename_i h1
   rw [if_neg h1] at h
   split
   ·rename_i h2
    rw [if_pos h2] at h
    exact ⟨nz,((BQ 0 0 l (by decide)).2.2 h).1⟩
   ·rename_i h2
    rw [if_neg h2] at h
    exact absurd h (Nat.lt_irrefl _)
 obtain ⟨q,hq⟩:=hR
 rw [List.drop_eq_getElem_cons h] at hq⊢
 exact ⟨_,by rw [vA _ _ _ hq]⟩
theorem Mo (st:Int) (nm l:ab) (hv:validD l=true):(∀t∈(c9 st nm l).1,xO t)∧validD (l.drop (c9 st nm l).2)=true:=by
 have hle:=oF st nm l
 have hd:l.drop (aG st nm l)=[]∨((l.drop (aG st nm l)).getD 0 0).toNat<128:=by
  by_cases hlt:aG st nm l<l.length
  ·obtain ⟨t,ht⟩:=OA st nm l hlt
   exact .inr (by rw [ht];show (60:UInt8).toNat<128;decide)
  ·exact .inl (List.drop_eq_nil_of_le (by omega))
 obtain ⟨h1,h2⟩:=JD l (aG st nm l) hv hd
 have he:∀t∈aQ (fb st nm l),xO t:=Mn _ (Oz _ _ h1)
 have hn:validD (l.drop l.length)=true:=by rw [List.drop_length];rfl
 unfold c9
 split
 ·split
  ·exact ⟨he,hn⟩
  ·split
   ·cases hr:gR (l.drop (aG st nm l)) with
    |none=>exact ⟨he,hn⟩
    |some r=>
     obtain ⟨t,n⟩:=r
     obtain ⟨h3,h4⟩:=JH _ t n hr h2
     rw [List.drop_drop] at h4
     refine ⟨fun u hu=>?_,h4⟩
     rcases List.mem_append.1 hu with h5|h5
     ·exact he u h5
     ·rw [List.mem_singleton.1 h5];exact h3
   ·exact ⟨he,h2⟩
 ·exact ⟨fun t h=>(by cases h),hv⟩
theorem D8:∀(f:Nat) (l:ab),validD l=true→∀t∈oP f l,xO t
 |0,_,_,t,h=>by cases h
 |f+1,l,hv,t,h=>by
  obtain ⟨h1,h2⟩:=Pk l hv
  unfold oP at h
  split at h
  ·cases h
  ·have hS:(∀t∈(gX l).1,xO t)∧validD (l.drop (gX l).2)=true:=by
    unfold gX
    split
    ·split
     ·obtain ⟨h3,h4⟩:=Mo (dx (nx l).1.name) (nx l).1.name _ h2
      rw [List.drop_drop] at h4
      refine ⟨fun u hu=>?_,h4⟩
      rcases List.mem_cons.1 hu with h5|h5
      ·rw [h5];exact h1
      ·exact h3 u h5
     ·refine ⟨fun u hu=>?_,h2⟩
      rw [List.mem_singleton.1 hu];exact h1
    ·exact ⟨fun u hu=>(by cases hu),h2⟩
   rcases List.mem_append.1 h with h3|h3
   ·exact hS.1 t h3
   ·exact D8 f _ hS.2 t h3
theorem qb (r:eN):dz r (d9 [])=r:=by
 rw [dE r (d9 []) rfl]
 split
 ·rename_i h
  obtain ⟨o,k,f⟩:=r
  simp only at h
  subst h;rfl
 ·rfl
theorem JJ (r:eN) (x:ab) (t:aq) (h:t.kind=0):dz (dz r (d9 x)) t=dz r (d9 (x++t.text)):=by
 rw [dE r (d9 x) rfl,dE r (d9 (x++t.text)) rfl]
 by_cases ho:r.opn=[]
 ·rw [if_pos ho,if_pos ho,dE _ t h,if_pos rfl]
  show (⟨[],r.kept,cP _ (cP _ r.flow x) t.text⟩:eN)=_
  rw [←lF];rfl
 ·rw [if_neg ho,if_neg ho,dE r t h,if_neg ho]
theorem Aj (r:eN) (x:ab):renR r (aQ x)=dz r (d9 x):=by
 unfold aQ
 split
 ·rename_i h
  rw [h,qb];rfl
 ·rfl
theorem qd:∀(L:List aq) (x:ab) (r:eN),renR r (cE x L)=renR (dz r (d9 x)) L
 |[],x,r=>by rw [cE,Aj];rfl
 |t::L,x,r=>by
  rw [cE,mC]
  split
  ·rename_i h
   rw [qd L,JJ r x t h]
  ·rw [Jw,Aj,mC,qd L [],qb]
theorem JK (L:List aq) (r:eN):renR r (bX L)=renR r L:=by
 unfold bX
 rw [qd,qb]
def o0 (f:aC):Prop:=validD f.told=true∧∀c∈f.blanks,c.toNat<128
def qe (f:aC):ab:=if f.told=[] then [] else f.told++List.replicate f.ends 10++f.blanks
theorem vS (keep:Bool):∀(e:ab) (f:aC),e≠[]→(∀c∈e,oU c=true)→cP keep f e=⟨qe f++e,0,[]⟩
 |[],_,h,_=>absurd rfl h
 |c::e,f,_,h=>by
  have hc:=h c (.head _)
  unfold oU at hc
  simp only [Bool.and_eq_true,Bool.not_eq_true',beq_eq_false_iff_ne] at hc
  have h1:dW keep f c=⟨cY f c,0,[]⟩:=Ow keep f c hc.1 hc.2
  rw [gu,h1]
  by_cases he:e=[]
  ·subst he;rfl
  ·rw [vS keep e _ he (fun x hx=>h x (.tail _ hx))]
   have h2:qe ⟨cY f c,0,[]⟩=cY f c:=by
    unfold qe
    rw [if_neg (by unfold cY;simp)];simp
   rw [h2]
   unfold cY qe
   simp
theorem FN (c:UInt8) (h:128≤c.toNat):oU c=true:=by
 have hn:∀d:UInt8,d.toNat<128→c≠d:=fun d hd e=>by rw [e] at h;omega
 unfold oU iT
 simp [hn 0 (by decide),hn 9 (by decide),hn 10 (by decide),hn 12 (by decide),hn 13 (by decide),hn 32 (by decide)]
theorem Ak (f:aC) (h:o0 f):validD (qe f)=true:=by
 unfold qe
 split
 ·rfl
 ·refine gz _ _ (gz _ _ h.1 (th _ fun c hc=>?_)) (th _ h.2)
  rw [(List.mem_replicate.1 hc).2];decide
theorem Mp (keep:Bool) (f:aC) (c:UInt8) (h7:c.toNat<128) (h:o0 f):o0 (dW keep f c):=by
 unfold dW
 split
 ·exact h
 ·split
  ·rename_i hb
   split
   ·split
    ·exact ⟨h.1,fun d hd=>by cases hd⟩
    ·refine ⟨h.1,fun d hd=>?_⟩
     rcases List.mem_append.1 hd with hd|hd
     ·exact h.2 d hd
     ·rw [List.mem_singleton.1 hd];exact h7
   ·split
    ·exact ⟨h.1,fun d hd=>by rw [List.mem_singleton.1 hd];decide⟩
    ·exact h
  ·refine ⟨?_,fun d hd=>by cases hd⟩
   exact gz _ _ (Ak f h) (th _ fun d hd=>by rw [List.mem_singleton.1 hd];exact h7)
theorem OB (keep:Bool) (s:ab) (hv:validD s=true):∀f,o0 f→o0 (cP keep f s):=by
 refine Cv (M:=fun s=>∀f,o0 f→o0 (cP keep f s)) (fun f h=>h) (fun c t h7 _ ih f h=>?_) (fun e t hne h1 h2 _ ih f h=>?_) s.length s (Nat.le_refl _) hv
 ·rw [gu];exact ih _ (Mp keep f c h7 h)
 ·rw [lF,vS keep e f hne (fun c hc=>FN c (h2 c hc))]
  exact ih _ ⟨gz _ _ (Ak f h) h1,fun d hd=>by cases hd⟩
theorem Al (nm:ab) (f:aC) (h:o0 f):o0 (bN nm f):=by
 have hb:o0 (pt nm f):=by
  unfold pt
  split
  ·exact ⟨h.1,fun d hd=>by cases hd⟩
  ·exact h
 unfold bN
 split
 ·exact ⟨hb.1,fun d hd=>by cases hd⟩
 ·exact hb
theorem Mr (r:eN) (t:aq) (ht:xO t) (h:o0 r.flow):o0 (dz r t).flow:=by
 unfold dz
 split
 ·split
  ·exact h
  ·split
   ·exact Al _ _ h
   ·exact h
 ·split
  ·split
   ·exact h
   ·split
    ·exact Al _ _ h
    ·exact h
  ·split
   ·rename_i h0
    exact OB _ _ (ht h0.1) _ h
   ·exact h
theorem D9:∀(L:List aq) (r:eN),(∀t∈L,xO t)→o0 r.flow→o0 (renR r L).flow
 |[],_,_,h=>h
 |t::L,r,hL,h=>D9 L _ (fun u hu=>hL u (.tail _ hu)) (Mr r t (hL t (.head _)) h)
end Go.Proofs.YtajpoodpbbbkfaaGreatDoor
namespace Go.Proofs.YtajpoodpbbbkfaaGreatDoor
open Go.RowKit Go.Lib
def Ea (c:UInt8):Nat:=if c.toNat<128 then 3 else 1
def iZ:ab→Nat
 |[]=>0
 |c::t=>Ea c+iZ t
theorem qf:∀a b:ab,iZ (a++b)=iZ a+iZ b
 |[],b=>by rw [List.nil_append];simp [iZ]
 |c::a,b=>by rw [List.cons_append,iZ,iZ,qf a b];omega
theorem Cw (l:ab) (n:Nat):iZ l=iZ (l.take n)+iZ (l.drop n):=by rw [←qf,List.take_append_drop]
theorem mG:∀l:ab,l.length≤iZ l∧iZ l≤3*l.length
 |[]=>⟨Nat.le_refl _,Nat.le_refl _⟩
 |c::t=>by
  have h:=mG t
  have h1:1≤Ea c∧Ea c≤3:=by unfold Ea;split<;>omega
  rw [iZ,List.length_cons];omega
theorem JL:∀l:ab,(∀c∈l,c.toNat<128)→iZ l=3*l.length
 |[],_=>rfl
 |c::t,h=>by
  have h1:Ea c=3:=if_pos (h c (.head _))
  rw [iZ,List.length_cons,h1,JL t (fun x hx=>h x (.tail _ hx))];omega
theorem rF:∀(n:Nat) (l:ab),l.length≤n→iZ (fD l)≤3*l.length
 |0,l,h=>by
  have:l=[]:=List.eq_nil_of_length_eq_zero (by omega)
  subst this;simp [ld,iZ]
 |n+1,l,h=>by
  by_cases hne:l=[]
  ·subst hne;simp [ld,iZ]
  ·have hl:0<l.length:=List.length_pos_iff.2 hne
   have hw:=decodeL_width l
   have hwl:=nV l hne
   have hb:=l8 l
   rw [iw l hne]
   cases hk:brk l with
   |true=>
    rw [if_pos rfl,qf]
    have h1:=rF n (l.drop (dv l)) (by rw [List.length_drop];omega)
    rw [List.length_drop] at h1
    have h2:iZ iF=3:=by decide
    omega
   |false=>
    rw [if_neg (by simp),qf]
    have h1:=rF n (l.drop (decodeL l).2) (by rw [List.length_drop];omega)
    have h2:=(mG (l.take (decodeL l).2)).2
    rw [List.length_drop] at h1
    rw [List.length_take] at h2
    omega
theorem Cx (l:ab):iZ (gi l)≤3*l.length:=by
 cases h:hasPrefix l bw
 ·rw [gj l h];exact rF _ l (Nat.le_refl _)
 ·rw [rQ l h]
  have:=rF _ (l.drop 3) (Nat.le_refl _)
  rw [List.length_drop] at this
  omega
theorem Eb:∀l:ab,iZ (ay l)≤iZ l
 |[]=>Nat.le_refl _
 |c::r=>by
  have ih:=Eb r
  rw [ay]
  split
  ·rw [iZ,iZ];omega
  ·split
   ·rw [iZ];omega
   ·rename_i h _
    have h1:c=13:=Classical.not_not.1 h
    rw [iZ,iZ,h1]
    have:Ea 13=3:=by decide
    have:Ea 10=3:=by decide
    omega
theorem Am:∀l:ab,(ap l).length≤iZ l
 |[]=>Nat.le_refl _
 |c::r=>by
  have ih:=Am r
  have h1:1≤Ea c:=by unfold Ea;split<;>omega
  rw [ap,iZ]
  split
  ·rename_i h
   have:Ea c=3:=by rw [h];decide
   simp only [List.length_cons];omega
  ·rw [List.length_cons];omega
theorem Ec (attr:Bool):∀(n:Nat) (l:ab),l.length≤n→(ap (dQ attr l)).length≤iZ l
 |_,[],_=>Nat.le_refl _
 |0,c::z,h=>absurd h (by simp)
 |n+1,c::z,h=>by
  rw [List.length_cons] at h
  have h1:1≤Ea c:=by unfold Ea;split<;>omega
  by_cases hc:c=38
  ·subst hc
   have ih:=Ec attr n (z.drop (ce z)) (by rw [List.length_drop];omega)
   have h2:=(lw z attr).2
   have h3:=Cw z (ce z)
   have h4:=JL (z.take (ce z)) (xM z)
   have h5:=oh z
   have h6:Ea 38=3:=by decide
   rw [List.length_take] at h4
   rw [kz,kr,gF _ (D7 z attr).2,List.length_append,iZ]
   omega
  ·have ih:=Ec attr n z (by omega)
   rw [iO attr c z hc,ap,iZ]
   split
   ·rename_i h0
    have:Ea c=3:=by rw [h0];decide
    simp only [List.length_cons];omega
   ·rw [List.length_cons];omega
theorem OD (refs:Bool) (l:ab):(kF refs l).length≤iZ l:=by
 unfold kF
 split
 ·exact Ec false _ l (Nat.le_refl _)
 ·exact Am l
theorem Ms (l:ab):(dQ false l).length≤iZ l:=
 Nat.le_trans (er _).1 (Ec false _ l (Nat.le_refl _))
def An (t:aq):Nat:=if t.kind=0 then t.text.length else if t.kind=1∨t.kind=2 then 2 else 0
def uF:List aq→Nat
 |[]=>0
 |t::L=>An t+uF L
theorem Cz:∀a b:List aq,uF (a++b)=uF a+uF b
 |[],b=>by rw [List.nil_append];simp [uF]
 |c::a,b=>by rw [List.cons_append,uF,uF,Cz a b];omega
theorem xP (x:ab):uF (aQ x)=x.length:=by
 unfold aQ
 split
 ·rename_i h;rw [h];rfl
 ·rfl
theorem JM (l:ab) (t:aq) (n:Nat) (hr:gR l=some (t,n)):An t≤iZ (l.take n):=by
 obtain ⟨h1,h2,-⟩:=eB l t n hr
 have hb:aV l≠0∨aV l=0:=by omega
 have h3:An t≤2:=by
  unfold An
  split
  ·rw [sB l t n hr];exact Nat.zero_le _
  ·split<;>omega
 have h4:=(mG (l.take n)).1
 rw [List.length_take] at h4
 have h5:1≤n:=by omega
 rcases Nat.lt_or_ge n 2 with h6|h6
 ·obtain rfl:n=1:=by omega
  have h7:=(eB l t 1 hr).2.2.1
  have hl:0<l.length:=by omega
  rw [oZ l 0 hl] at h7
  have h8:l.take 1=[l[0]]:=by
   cases l with
   |nil=>simp at hl
   |cons c l=>rfl
  rw [h8,h7]
  have:iZ [62]=3:=by decide
  omega
 ·omega
theorem Pl (l:ab):(if (nx l).2.2=true then An (nx l).1 else 0)≤iZ (l.take (nx l).2.1):=by
 rcases fc l with ⟨h,-,e⟩|⟨h,t,n,hr,e⟩|⟨-,h,e⟩|⟨-,-,h,e⟩|⟨-,-,-,h,e⟩|⟨-,-,-,-,-,-,h,e⟩|⟨-,-,-,-,-,h,e⟩
 all_goals rw [e];simp only
 ·exact Nat.zero_le _
 ·exact JM l t n hr
 ·exact Nat.zero_le _
 ·exact Nat.zero_le _
 ·exact Nat.zero_le _
 ·exact Nat.zero_le _
 ·exact Ms _
theorem Mt (st:Int) (nm l:ab):uF (c9 st nm l).1≤iZ (l.take (c9 st nm l).2):=by
 have hle:=oF st nm l
 have h1:(fb st nm l).length≤iZ (l.take (aG st nm l)):=OD _ _
 have h2:=Cw l (aG st nm l)
 have h3:uF (aQ (fb st nm l))≤iZ (l.take l.length):=by
  rw [xP,List.take_length];omega
 unfold c9
 split
 ·split
  ·exact h3
  ·split
   ·cases hr:gR (l.drop (aG st nm l)) with
    |none=>exact h3
    |some r=>
     obtain ⟨t,n⟩:=r
     have h4:=JM _ t n hr
     show uF (aQ (fb st nm l)++[t])≤iZ (l.take (aG st nm l+n))
     rw [Cz,xP,List.take_add,qf]
     show _+(An t+0)≤_
     omega
   ·rw [xP];exact h1
 ·exact Nat.zero_le _
theorem xQ:∀(f:Nat) (l:ab),uF (oP f l)≤iZ l
 |0,_=>Nat.zero_le _
 |f+1,l=>by
  unfold oP
  split
  ·exact Nat.zero_le _
  ·have ih:=xQ f (l.drop (gX l).2)
   have hS:uF (gX l).1≤iZ (l.take (gX l).2):=by
    have hn:=Pl l
    unfold gX
    split
    ·rename_i hk
     rw [if_pos hk] at hn
     split
     ·have h1:=Mt (dx (nx l).1.name) (nx l).1.name (l.drop (nx l).2.1)
      show An (nx l).1+uF _≤iZ (l.take ((nx l).2.1+_))
      rw [List.take_add,qf]
      omega
     ·show An (nx l).1+0≤iZ (l.take (nx l).2.1)
      omega
    ·exact Nat.zero_le _
   have h2:=Cw l (gX l).2
   rw [Cz]
   omega
theorem FO (nm:ab) (f:aC):(bN nm f).size≤f.size+2:=by
 have hl:=pY nm
 have h2:∀g:aC,(nC (il nm) g).size≤g.size+2:=fun g=>by
  unfold nC aC.size
  simp only [List.length_nil]
  omega
 by_cases hb:nm=Ju
 ·subst hb
  unfold bN pt
  rw [if_neg (show ¬0<il Ju by decide),if_pos rfl]
  have:=jW f;omega
 ·unfold bN pt
  rw [if_neg hb]
  split
  ·exact h2 f
  ·omega
theorem Mu (r:eN) (t:aq):(dz r t).flow.size≤r.flow.size+An t:=by
 have h1:=FO t.name r.flow
 have h2:=gv (decide (0<r.kept)) t.text r.flow
 by_cases k1:t.kind=1
 ·have hw:An t=2:=by unfold An;rw [if_neg (by rw [k1];decide),if_pos (.inl k1)]
  rw [hw,cD r t k1]
  split
  ·simp only;omega
  ·split
   ·simp only;omega
   ·simp only;omega
 ·by_cases k2:t.kind=2
  ·have hw:An t=2:=by unfold An;rw [if_neg (by rw [k2];decide),if_pos (.inr k2)]
   rw [hw,fR r t k2]
   split
   ·simp only;omega
   ·split
    ·simp only;omega
    ·omega
  ·by_cases k0:t.kind=0
   ·have hw:An t=t.text.length:=by unfold An;rw [if_pos k0]
    rw [hw,dE r t k0]
    split
    ·simp only;omega
    ·omega
   ·rw [nI r t k0 k1 k2];omega
theorem Ee:∀(L:List aq) (r:eN),(renR r L).flow.size≤r.flow.size+uF L
 |[],_=>Nat.le_refl _
 |t::L,r=>by
  have h1:=Ee L (dz r t)
  have h2:=Mu r t
  rw [mC,uF]
  omega
noncomputable def cT (b:ab):ab:=p7 (kZ (ay (gi b)))
theorem JN (b:ab):cT b=(renR lK (eD (ay (gi b)))).flow.told:=by
 unfold cT p7 kZ
 rw [JK]
theorem OE (b:ab):validD (gi b)=true:=by
 cases h:hasPrefix b bw
 ·rw [gj b h];exact jb _ b (Nat.le_refl _)
 ·rw [rQ b h];exact jb _ _ (Nat.le_refl _)
theorem CB (b:ab):validD (cT b)=true:=by
 rw [JN]
 exact (D9 _ lK (D8 _ _ (Mj _ (OE b))) ⟨rfl,fun c h=>by cases h⟩).1
theorem xR (b:ab):(cT b).length≤3*b.length:=by
 rw [JN]
 have h1:=Ee (eD (ay (gi b))) lK
 have h2:uF (eD (ay (gi b)))≤_:=xQ _ _
 have h3:=Eb (gi b)
 have h4:=Cx b
 have h5:lK.flow.size=0:=rfl
 have h6:(renR lK (eD (ay (gi b)))).flow.told.length≤(renR lK (eD (ay (gi b)))).flow.size:=by unfold aC.size;omega
 omega
theorem vT (b:ab):qM (renR lK (kZ (ay (gi b)))).flow:=FL _
end Go.Proofs.YtajpoodpbbbkfaaGreatDoor
namespace Go.Proofs.YtajpoodpbbbkfaaGreatDoor
open Go.RowKit Go.Lib
theorem FP (a z:ab) (h:60∉a) (hz:bJ z=0):eD (a++z)=aQ (dQ false a)++eD z:=by
 by_cases ha:a=[]
 ·subst ha;rfl
 ·have hne:a++z≠[]:=fun e=>ha (List.append_eq_nil_iff.1 e).1
  have hS:gX (a++z)=([d9 (dQ false a)],a.length):=by
   unfold gX
   rw [IP a z ha h hz]
   simp only [if_true]
   rw [if_neg (fun e=>absurd e.1 (show ¬(0:Int)=1 by decide))]
  rw [oQ _ hne,hS]
  simp only [List.drop_left]
  rw [zI _ (LN a ha)]
theorem Ap (a:ab) (h:60∉a):eD a=aQ (dQ false a):=by
 have:=FP a [] h rfl
 rwa [List.append_nil,xB,List.append_nil] at this
end Go.Proofs.YtajpoodpbbbkfaaGreatDoor
namespace Go.Proofs.YtajpoodpbbbkfaaGreatDoor
open Go.RowKit Go.Lib
theorem Ef (x:ab) (t:aq) (h:t∈aQ x):t.text.length≤x.length:=by rw [ms x t h];exact Nat.le_refl _
theorem vU:∀(f:Nat) (l:ab) (t:aq),t∈oP f l→t.text.length≤9*l.length+3
 |0,_,t,h=>by cases h
 |f+1,l,t,h=>by
  unfold oP at h
  split at h
  ·cases h
  ·rcases List.mem_append.1 h with h1|h1
   ·have hn:=xo l
    unfold gX at h1
    split at h1
    ·split at h1
     ·rcases List.mem_cons.1 h1 with h2|h2
      ·rw [h2];omega
      ·have:=(rC (dx (nx l).1.name) (nx l).1.name (l.drop (nx l).2.1)).2 t h2
       rw [List.length_drop] at this
       omega
     ·rw [List.mem_singleton.1 h1];omega
    ·cases h1
   ·have:=vU f _ t h1
    rw [List.length_drop] at this
    omega
theorem lP:∀(L:List aq) (x:ab) (n:Nat),(∀t∈L,t.text.length≤n)→∀t∈cE x L,t.text.length≤x.length+uF L+n
 |[],x,n,_,t,h=>by
  rw [cE] at h
  have:=Ef x t h;omega
 |u::L,x,n,hn,t,h=>by
  rw [cE] at h
  have hu:=hn u (.head _)
  have hL:=fun v hv=>hn v (List.mem_cons_of_mem u hv)
  split at h
  ·rename_i hk
   have:=lP L _ n hL t h
   have hw:An u=u.text.length:=by unfold An;rw [if_pos hk]
   rw [List.length_append] at this
   rw [uF];omega
  ·rw [uF]
   rcases List.mem_append.1 h with h1|h1
   ·have:=Ef x t h1;omega
   ·rcases List.mem_cons.1 h1 with h2|h2
    ·rw [h2];omega
    ·have:=lP L [] n hL t h2
     rw [List.length_nil] at this
     omega
theorem CE (s:ab) (n:Nat) (h:s.length≤n):∀t∈kZ s,t.text.length≤12*n+3:=fun t ht=>by
 have h1:=lP (eD s) [] _ (vU s.length s) t ht
 have h2:uF (eD s)≤_:=xQ _ _
 have h3:=(mG s).2
 rw [List.length_nil] at h1
 omega
theorem FQ (s:ab):(kZ s).length≤3*s.length:=Nat.le_trans (IQ _) (D1 _ _)
theorem FR (l:ab) (h:l.length≤300):(gi l).length≤900∧(ay (gi l)).length≤900∧(kZ (ay (gi l))).length≤2700∧(∀t∈kZ (ay (gi l)),t.text.length≤10803)∧(cT l).length≤900:=by
 have h1:=(mG (gi l)).1
 have h2:=Cx l
 have h3:=vc (gi l)
 have h4:=FQ (ay (gi l))
 have h5:=xR l
 exact ⟨by omega,by omega,by omega,CE _ 900 (by omega),by omega⟩
structure nc (l:ab):Prop where
 size:l.length≤100000
 few:(kZ (ay (gi l))).length≤4096
 text:∀t∈kZ (ay (gi l)),t.text.length≤65536
theorem iU (l:ab) (h:l.length≤300):nc l:=by
 obtain ⟨-,-,h3,h4,-⟩:=FR l h
 exact ⟨by omega,by omega,fun t ht=>by have:=h4 t ht;omega⟩
theorem Aq (l:ab):(gi l).length≤3*l.length∧(ay (gi l)).length≤3*l.length:=by
 have h1:=(mG (gi l)).1
 have h2:=Cx l
 have h3:=vc (gi l)
 omega
end Go.Proofs.YtajpoodpbbbkfaaGreatDoor
