/-
  Texts laid together: Goto, SrchMath, SrchLib, SrchCode, SrchTop, RowMath, RowRef, RowRows.
-/
import Derived.WalkKit
import Derived.ScopeJumps
import Derived.Lib.LastIndexByte
import Derived.Lib.Bytes
import Derived.Test.YtajpoodpbbbkfaaGreatDoorShelf
import Derived.Test.YtajpoodpbbbkfaaGreatDoorP1
import Derived.Lib.IndexLaws
import Derived.Deep.Draws
import Derived.Below
import Derived.BigQuiet
import Derived.OwnWalk
import Derived.Laws.AppendOwn
import Derived.Laws.OwnMore
set_option maxHeartbeats 4000000
set_option maxRecDepth 100000
namespace Go.Proofs.YtajpoodpbbbkfaaGreatDoor
section
variable {P:Program} {a:Act} {w:World} {Q:Exit→Act→World→Prop}
theorem EB (l:Nat) {J J':Act→World→Prop} (h:∀a w,J a w→J' a w):∀e a w,Exit.jump l J Q e a w→Exit.jump l J' Q e a w:=by
 intro e a w h1
 cases e with
 |goto l'=>exact ⟨h1.1,h _ _ h1.2⟩
 |normal=>exact h1
 |exit id=>exact h1
 |ret=>exact h1
 |panic ch=>exact h1
 |outgrown=>exact h1
theorem cV {c r:Code} (l:Nat) (J:Act→World→Prop) (μ:Act→World→Nat) (hf:findLabel c l=some (Code.skip.seq r)) (pass:∀a w,J a w→r.wp P (Exit.jump l (fun a' w'=>J a' w'∧μ a' w'<μ a w) Q) a w) (first:(∀a w,J a w→r.wp P (Exit.jump l J Q) a w)→c.wp P (Exit.jump l J Q) a w):(Code.scope c).wp P Q a w:=
 wp_scope_jumps l J μ hf (first fun a w h=>wp_mono (pass a w h) (EB l fun _ _ h=>h.1)) fun a w h=>wp_seq (wp_skip (pass a w h))
end
end Go.Proofs.YtajpoodpbbbkfaaGreatDoor
namespace Go.Proofs.YtajpoodpbbbkfaaGreatDoor
abbrev ab:=List UInt8
abbrev Ln:=ab × ab
def cZ (r:Ln):ab:=r.1++32::r.2
def du:List Ln→ab
 |[]=>[]
 |r::rs=>cZ r++10::du rs
def aZ (rs:List Ln):ab:=(du rs).dropLast
def rR (r:Ln):Prop:=r.1≠[]∧32∉r.1∧10∉r.1∧10∉r.2
def eV (rs:List Ln):Prop:=(∀r∈rs,rR r)∧rs.Pairwise fun a b=>a.1<b.1
def aR (rs:List Ln) (i:Nat):Nat:=(du (rs.take i)).length
def wI (rs:List Ln) (j:Nat):Nat:=min (aR rs j) (aZ rs).length
theorem gk (r:Ln):(cZ r).length=r.1.length+r.2.length+1:=by simp [cZ];omega
theorem rR.pos {r:Ln} (h:rR r):0<r.1.length:=List.length_pos_iff.2 h.1
theorem rR.line {r:Ln} (h:rR r):10∉cZ r:=by
 simp only [cZ,List.mem_append,List.mem_cons,not_or]
 exact ⟨h.2.2.1,by decide,h.2.2.2⟩
theorem kq (a b:List Ln):du (a++b)=du a++du b:=by
 induction a with
 |nil=>rfl
 |cons r a ih=>simp [du,ih,List.append_assoc]
theorem rS (rs:List Ln) (i:Nat):(du rs).drop (aR rs i)=du (rs.drop i):=by
 unfold aR
 conv=>lhs;arg 2;rw [←List.take_append_drop i rs,kq]
 rw [List.drop_left]
theorem EC (rs:List Ln):aR rs 0=0:=rfl
theorem gl (rs:List Ln) (i:Nat) (h:i<rs.length):aR rs (i+1)=aR rs i+(cZ rs[i]).length+1:=by
 unfold aR
 rw [List.take_succ_eq_append_getElem h,kq]
 simp [du]
 omega
theorem jc (rs:List Ln) {i j:Nat} (h:i≤j):aR rs i≤aR rs j:=by
 obtain ⟨k,rfl⟩:=Nat.exists_eq_add_of_le h
 unfold aR
 rw [List.take_add,kq,List.length_append]
 omega
theorem rT (rs:List Ln) (j:Nat) (h:rs.length≤j):aR rs j=(du rs).length:=by
 unfold aR;rw [List.take_of_length_le h]
theorem ix (rs:List Ln):(aZ rs).length=(du rs).length-1:=by unfold aZ;rw [List.length_dropLast]
theorem Dv (rs:List Ln) (i:Nat) (h:i<rs.length):aR rs i+(cZ rs[i]).length+1≤(du rs).length:=by
 rw [←gl rs i h,←rT rs rs.length (Nat.le_refl _)]
 exact jc rs h
theorem dL (rs:List Ln) (i j:Nat) (h:i<j) (hj:j≤rs.length):aR rs i+(cZ (rs[i]'(by omega))).length≤wI rs j:=by
 have h1:=Dv rs i (by omega)
 have h2:=jc rs (i:=i+1) (j:=j) h
 rw [gl rs i (by omega)] at h2
 have h3:=ix rs
 unfold wI
 omega
theorem G8 (rs:List Ln) (i j:Nat) (h:j≤i):wI rs j≤aR rs i:=by
 have:=jc rs h
 unfold wI;omega
theorem rU (rs:List Ln) (j:Nat):wI rs j≤(aZ rs).length:=by unfold wI;omega
theorem jd (rs:List Ln):wI rs rs.length=(aZ rs).length:=by
 have:=ix rs
 unfold wI
 rw [rT rs _ (Nat.le_refl _)]
 omega
theorem NL (rs:List Ln) (k:Nat) (h:k<rs.length):wI rs k=aR rs k:=by
 have h1:=Dv rs k h
 have h3:=ix rs
 unfold wI;omega
theorem Dw (rs:List Ln) (k j:Nat) (h:k<j) (hj:j≤rs.length):∃z,((aZ rs).take (wI rs j)).drop (aR rs k)=cZ (rs[k]'(by omega))++z∧(z=[]∨∃y,z=10::y):=by
 have hk:k<rs.length:=by omega
 have h1:=dL rs k j h hj
 have h2:=rU rs j
 have e1:(aZ rs).take (wI rs j)=(du rs).take (wI rs j):=by
  have:=ix rs
  unfold aZ
  rw [List.dropLast_eq_take,List.take_take]
  congr 1
  omega
 have e2:(du rs).drop (aR rs k)=cZ rs[k]++10::du (rs.drop (k+1)):=by
  rw [rS,List.drop_eq_getElem_cons hk];rfl
 rw [e1,List.drop_take,e2,List.take_append]
 rw [List.take_of_length_le (by omega)]
 refine ⟨_,rfl,?_⟩
 generalize wI rs j-aR rs k-(cZ rs[k]).length=m
 cases m with
 |zero=>exact .inl rfl
 |succ m=>exact .inr ⟨_,rfl⟩
theorem wJ (rs:List Ln) (p:Nat):∀j,j≤rs.length→∀i,i<j→aR rs i≤p→p<aR rs j→∃k,i≤k∧k<j∧aR rs k≤p∧p<aR rs (k+1):=by
 intro j
 induction j with
 |zero=>intro _ i hi;omega
 |succ j ih=>
  intro hj i hi h1 h2
  by_cases h:aR rs j≤p
  ·exact ⟨j,by omega,by omega,h,h2⟩
  ·have hij:i≠j:=by rintro rfl;omega
   obtain ⟨k,a,b,c,d⟩:=ih (by omega) i (by omega) h1 (by omega)
   exact ⟨k,a,by omega,c,d⟩
theorem oa (rs:List Ln) (hv:∀r∈rs,rR r) (k p:Nat) (hk:k<rs.length) (h1:aR rs k≤p) (h2:p<aR rs (k+1)) (hp:p<(aZ rs).length):(aZ rs)[p]? =some 10↔p+1=aR rs (k+1):=by
 have e1:(aZ rs)[p]? =(du rs)[p]? :=by
  have:=ix rs
  unfold aZ
  rw [List.dropLast_eq_take,List.getElem?_take,if_pos (by omega)]
 have e2:(du rs).drop (aR rs k)=cZ rs[k]++10::du (rs.drop (k+1)):=by
  rw [rS,List.drop_eq_getElem_cons hk];rfl
 have e3:(du rs)[p]? =(cZ rs[k]++10::du (rs.drop (k+1)))[p-aR rs k]? :=by
  rw [←e2,List.getElem?_drop];congr 1;omega
 rw [e1,e3]
 rw [gl rs k hk] at h2⊢
 by_cases hl:p-aR rs k<(cZ rs[k]).length
 ·rw [List.getElem?_append_left hl]
  constructor
  ·intro h
   exact absurd (List.mem_of_getElem? h) (hv _ (List.getElem_mem hk)).line
  ·intro h;omega
 ·have:p-aR rs k=(cZ rs[k]).length:=by omega
  rw [this,List.getElem?_append_right (Nat.le_refl _)]
  simp
  omega
theorem Pu (rs:List Ln) (hv:∀r∈rs,rR r) (t:ByteArray) (ht:t.data.toList=aZ rs) (i j m:Nat) (hij:i<j) (hj:j≤rs.length) (h1:aR rs i≤m) (h2:m<wI rs j):∃k,i≤k∧k<j∧aR rs k≤m∧Lib.lastIndexByte (t.extract (aR rs i) m) 10=(aR rs k:Int)-(aR rs i:Int)-1:=by
 have hts:t.size=(aZ rs).length:=by rw [Lib.size_eq,ht]
 have hto:wI rs j≤aR rs j:=G8 rs j j (Nat.le_refl _)
 have hto2:=rU rs j
 obtain ⟨k,a,b,c,d⟩:=wJ rs m j hj i hij h1 (by omega)
 refine ⟨k,a,b,c,?_⟩
 have hsz:(t.extract (aR rs i) m).size=m-aR rs i:=by rw [ByteArray.size_extract];omega
 have hat:∀q,q<m-aR rs i→((((t.extract (aR rs i) m).data[q]!).toNat:Int)=10↔(aZ rs)[aR rs i+q]? =some 10):=by
  intro q hq
  have hq':q<(t.extract (aR rs i) m).data.size:=by show q<(t.extract (aR rs i) m).size;omega
  have hq2:aR rs i+q<(aZ rs).length:=by omega
  have hq3:aR rs i+q<t.data.size:=by show _<t.size;omega
  rw [getElem!_pos (t.extract (aR rs i) m).data q hq',List.getElem?_eq_getElem hq2]
  have e:(t.extract (aR rs i) m).data[q]=(aZ rs)[aR rs i+q]:=by
   have:=ByteArray.getElem_extract (b:=t) (start:=aR rs i) (stop:=m) (i:=q) (h:=by omega)
   have e2:t.data[aR rs i+q]=(aZ rs)[aR rs i+q]:=by
    have:t.data.toList[aR rs i+q]? =(aZ rs)[aR rs i+q]? :=by rw [ht]
    rw [List.getElem?_eq_getElem (by simpa using hq3),List.getElem?_eq_getElem hq2] at this
    simpa using this
   rw [←e2]
   exact this
  rw [e,Option.some.injEq,←UInt8.toNat_inj]
  show _↔_=10
  omega
 have hki:i≤k:=a
 have hoi:=jc rs hki
 rcases Lib.lastIndexByte_spec (t.extract (aR rs i) m) 10 with ⟨e,hn⟩|⟨q,hq,e,hc,hn⟩
 ·rw [e]
  by_cases hik:i=k
  ·subst hik;omega
  ·exfalso
   obtain ⟨k',rfl⟩:∃k',k=k'+1:=⟨k-1,by omega⟩
   have h3:=gl rs k' (by omega)
   have h4:=jc rs (i:=i) (j:=k') (by omega)
   refine hn (aR rs (k'+1)-1-aR rs i) (by omega) ?_
   rw [hat _ (by omega)]
   exact (oa rs hv k' _ (by omega) (by omega) (by omega) (by omega)).2 (by omega)
 ·rw [e]
  rw [hsz] at hq hn
  rw [hat q hq] at hc
  obtain ⟨k',a',b',c',d'⟩:=wJ rs (aR rs i+q) j hj i hij (by omega) (by omega)
  have h5:=(oa rs hv k' (aR rs i+q) (by omega) c' d' (by omega)).1 hc
  by_cases hlt:k'+1<k
  ·exfalso
   obtain ⟨k2,rfl⟩:∃k2,k=k2+1:=⟨k-1,by omega⟩
   have h3:=gl rs k2 (by omega)
   have h4:=jc rs (i:=k'+1) (j:=k2) (by omega)
   refine hn (aR rs (k2+1)-1-aR rs i) (by omega) (by omega) ?_
   rw [hat _ (by omega)]
   exact (oa rs hv k2 _ (by omega) (by omega) (by omega) (by omega)).2 (by omega)
  ·have hkk:k'+1=k:=by
    by_cases h6:k'+1=k
    ·exact h6
    ·exfalso
     have h7:=jc rs (i:=k+1) (j:=k'+1) (by omega)
     omega
   rw [hkk] at h5
   omega
theorem NM {q s:ab} (h:q<+:s):¬s<q:=by
 induction q generalizing s with
 |nil=>exact List.not_lt_nil _
 |cons x q ih=>
  obtain ⟨z,rfl⟩:=h
  rw [List.cons_append,List.cons_lt_cons_iff]
  rintro (h|⟨-,h⟩)
  ·exact absurd h (by simp)
  ·exact ih (List.prefix_append _ _) h
theorem yB {q k s:ab} (h:q<+:s) (h1:¬k<q) (h2:¬s<k):q<+:k:=by
 induction q generalizing k s with
 |nil=>exact List.nil_prefix
 |cons x q ih=>
  obtain ⟨z,rfl⟩:=h
  cases k with
  |nil=>exact absurd (List.nil_lt_cons _ _) h1
  |cons y k=>
   rw [List.cons_append,List.cons_lt_cons_iff,not_or,not_and] at h2
   rw [List.cons_lt_cons_iff,not_or,not_and] at h1
   have e:x=y:=by
    have a:=h1.1;have b:=h2.1
    rw [UInt8.lt_iff_toNat_lt] at a b
    rw [←UInt8.toNat_inj];omega
   subst e
   rw [List.cons_prefix_cons]
   exact ⟨rfl,ih (List.prefix_append _ _) (h1.2 rfl) (h2.2 rfl)⟩
def bp:ab→ab→Nat
 |a::x,b::y=>if a=b then bp x y+1 else 0
 |_,_=>0
theorem rV:∀a b,bp a b≤a.length
 |[],b=>by simp [bp]
 |a::x,[]=>by simp [bp]
 |a::x,b::y=>by
  unfold bp;split
  ·have:=rV x y;simp;omega
  ·simp
theorem rW:∀a b,bp a b≤b.length
 |[],b=>by simp [bp]
 |a::x,[]=>by simp [bp]
 |a::x,b::y=>by
  unfold bp;split
  ·have:=rW x y;simp;omega
  ·simp
theorem lh:∀(a b:ab),a.take (bp a b)<+:b
 |[],b=>by simp [bp]
 |a::x,[]=>by simp [bp]
 |a::x,b::y=>by
  unfold bp;split
  ·rename_i h;subst h;rw [List.take_succ_cons,List.cons_prefix_cons];exact ⟨rfl,lh x y⟩
  ·simp
theorem uX:∀(q a b:ab),q<+:a→q<+:b→q.length≤bp a b
 |[],_,_,_,_=>Nat.zero_le _
 |x::q,[],b,h,_=>by simp at h
 |x::q,a,[],_,h=>by simp at h
 |x::q,a::u,b::v,h1,h2=>by
  rw [List.cons_prefix_cons] at h1 h2
  obtain ⟨rfl,h1⟩:=h1
  obtain ⟨rfl,h2⟩:=h2
  have:=uX q u v h1 h2
  unfold bp;rw [if_pos rfl];simp;omega
theorem qw (a b:ab) (k:Nat) (ha:k<a.length) (hb:k<b.length):bp (a.drop k) (b.drop k)=if a[k]=b[k] then bp (a.drop (k+1)) (b.drop (k+1))+1 else 0:=by
 rw [List.drop_eq_getElem_cons ha,List.drop_eq_getElem_cons hb];rfl
theorem Bv (a b:ab) (k:Nat) (h:a.length≤k∨b.length≤k):bp (a.drop k) (b.drop k)=0:=by
 rcases h with h|h
 ·rw [List.drop_eq_nil_of_le h];unfold bp;rfl
 ·rw [List.drop_eq_nil_of_le h]
  cases a.drop k<;>rfl
def kh (rs:List Ln) (s:ab):Nat:=rs.findIdx fun r=>decide (s<r.1)
def eb (rs:List Ln):Nat→ab
 |0=>[]
 |i+1=>((rs[i]?).getD ([],[])).1
def jo (rs:List Ln):Nat→ab
 |0=>[]
 |i+1=>((rs[i]?).getD ([],[])).2
theorem eo (rs:List Ln) (i:Nat) (h:i<rs.length):eb rs (i+1)=rs[i].1:=by simp [eb,h]
theorem li (rs:List Ln) (i:Nat) (h:i<rs.length):jo rs (i+1)=rs[i].2:=by simp [jo,h]
theorem nn (rs:List Ln) (s:ab):kh rs s≤rs.length:=List.findIdx_le_length
theorem uY (rs:List Ln) (s:ab) (k:Nat) (h:k<kh rs s):¬s<(rs[k]'(Nat.lt_of_lt_of_le h (nn rs s))).1:=by
 have:=List.not_of_lt_findIdx (p:=fun r:Ln=>decide (s<r.1)) (xs:=rs) h
 simpa using this
theorem eV.rise {rs:List Ln} (h:eV rs) {i j:Nat} (hij:i<j) (hj:j<rs.length):(rs[i]'(by omega)).1<rs[j].1:=List.pairwise_iff_getElem.1 h.2 i j (by omega) hj hij
theorem ED {rs:List Ln} (h:eV rs) (s:ab) (k:Nat) (h1:kh rs s≤k) (hk:k<rs.length):s<rs[k].1:=by
 have h2:kh rs s<rs.length:=by omega
 have h3:s<rs[kh rs s].1:=by
  have:=List.findIdx_getElem (p:=fun r:Ln=>decide (s<r.1)) (xs:=rs) (w:=h2)
  exact of_decide_eq_true this
 by_cases e:kh rs s=k
 ·subst e;exact h3
 ·exact List.lt_trans h3 (h.rise (by omega) hk)
theorem G9 {rs:List Ln} (s:ab) (i:Nat) (hi:i≤rs.length) (h1:∀k (hk:k<rs.length),k<i→¬s<rs[k].1) (h2:∀k (hk:k<rs.length),i≤k→s<rs[k].1):kh rs s=i:=by
 unfold kh
 by_cases hl:i<rs.length
 ·rw [List.findIdx_eq hl]
  exact ⟨by simpa using h2 i hl (Nat.le_refl _),fun j hj=>by simpa using h1 j (by omega) hj⟩
 ·have:i=rs.length:=by omega
  rw [this]
  refine List.findIdx_eq_length_of_false fun x hx=>?_
  obtain ⟨k,hk,rfl⟩:=List.getElem_of_mem hx
  simpa using h1 k hk (by omega)
theorem uZ {rs:List Ln} (h:eV rs) (s:ab) (k i:Nat) (hk:k<rs.length) (hi:i≤k) (h1:¬s<rs[k].1):¬s<(rs[i]'(by omega)).1:=by
 intro h2
 by_cases e:i=k
 ·subst e;exact h1 h2
 ·exact h1 (List.lt_trans h2 (h.rise (by omega) hk))
theorem EE {rs:List Ln} (h:eV rs) (s:ab) (k i:Nat) (hk:k<rs.length) (hi:i<rs.length) (hki:k≤i) (h1:s<rs[k].1):s<rs[i].1:=by
 by_cases e:k=i
 ·subst e;exact h1
 ·exact List.lt_trans h1 (h.rise (by omega) hi)
def jx (rs : List Ln) (key : ab) : Option ab := (rs.find? fun r => r.1 == key).map (·.2)
theorem rY (rs:List Ln) (key:ab) (h:∀r∈rs,r.1≠key):jx rs key=none:=by
 unfold jx
 rw [List.find?_eq_none.2 (fun x hx=>by simpa using h x hx)]
 rfl
theorem yC {rs:List Ln} (h:eV rs) (i:Nat) (hi:i<rs.length):jx rs rs[i].1=some rs[i].2:=by
 unfold jx
 have:rs.find? (fun r=>r.1==rs[i].1)=some rs[i]:=by
  rw [List.find?_eq_some_iff_getElem]
  refine ⟨by simp,i,hi,rfl,fun j hj=>?_⟩
  have:=h.rise hj hi
  simp only [Bool.not_eq_true',beq_eq_false_iff_ne]
  intro e
  rw [e] at this
  exact List.lt_irrefl _ this
 rw [this];rfl
theorem KV {rs:List Ln} (h:eV rs) (i:Nat) (hi:i<rs.length):kh rs rs[i].1=i+1:=
 G9 _ _ hi (fun k hk hki=>uZ h _ i k hi (by omega) (List.lt_irrefl _)) (fun k hk hik=>h.rise (by omega) hk)
theorem yD {rs:List Ln} (h:eV rs) (key:ab) (hne:key≠[]) (he:eb rs (kh rs key)=key):jx rs key=some (jo rs (kh rs key)):=by
 cases ha:kh rs key with
 |zero=>rw [ha] at he;exact absurd he.symm hne
 |succ i=>
  have hi:i<rs.length:=by have:=nn rs key;omega
  rw [ha,eo rs i hi] at he
  rw [li rs i hi,←he]
  exact yC h i hi
theorem KW {rs:List Ln} (h:eV rs) (key:ab) (he:key=[]∨eb rs (kh rs key)≠key):jx rs key=none:=by
 refine rY rs key fun r hr e=>?_
 obtain ⟨i,hi,rfl⟩:=List.getElem_of_mem hr
 rcases he with he|he
 ·subst he;exact (h.1 _ hr).1 e
 ·apply he
  rw [←e,KV h i hi,eo rs i hi]
def aL (rs:List Ln) (s:ab):Nat:=rs.foldl (fun b r=>if r.1.isPrefixOf s∧b<r.1.length then r.1.length else b) 0
theorem pv (s:ab):∀(rs:List Ln) (b:Nat),(∀r∈rs,r.1<+:s→r.1.length≤rs.foldl (fun b r=>if r.1.isPrefixOf s∧b<r.1.length then r.1.length else b) b)∧b≤rs.foldl (fun b r=>if r.1.isPrefixOf s∧b<r.1.length then r.1.length else b) b∧(rs.foldl (fun b r=>if r.1.isPrefixOf s∧b<r.1.length then r.1.length else b) b=b∨∃r∈rs,r.1<+:s∧rs.foldl (fun b r=>if r.1.isPrefixOf s∧b<r.1.length then r.1.length else b) b=r.1.length)
 |[],b=>⟨by simp,Nat.le_refl _,.inl rfl⟩
 |r::rs,b=>by
  rw [List.foldl_cons]
  obtain ⟨h1,h2,h3⟩:=pv s rs (if r.1.isPrefixOf s∧b<r.1.length then r.1.length else b)
  refine ⟨?_,?_,?_⟩
  ·intro x hx hp
   rcases List.mem_cons.1 hx with rfl|hx
   ·refine Nat.le_trans ?_ h2
    split
    ·exact Nat.le_refl _
    ·rename_i hn
     have:x.1.isPrefixOf s:=List.isPrefixOf_iff_prefix.2 hp
     simp only [this,true_and] at hn
     omega
   ·exact h1 x hx hp
  ·refine Nat.le_trans ?_ h2
   split
   ·rename_i hn;omega
   ·exact Nat.le_refl _
  ·rcases h3 with h3|⟨x,hx,hp,e⟩
   ·rw [h3]
    split
    ·rename_i hn
     exact .inr ⟨r,List.mem_cons_self,List.isPrefixOf_iff_prefix.1 hn.1,rfl⟩
    ·exact .inl rfl
   ·exact .inr ⟨x,List.mem_cons_of_mem _ hx,hp,e⟩
theorem rn (rs:List Ln) (s:ab) (r:Ln) (hr:r∈rs) (hp:r.1<+:s):r.1.length≤aL rs s:=(pv s rs 0).1 r hr hp
theorem gE (rs:List Ln) (s:ab):aL rs s=0∨∃r∈rs,r.1<+:s∧aL rs s=r.1.length:=(pv s rs 0).2.2
theorem ma (rs:List Ln) (s:ab):aL rs s≤s.length:=by
 rcases gE rs s with h|⟨r,_,hp,h⟩
 ·omega
 ·rw [h];exact hp.length_le
theorem ro (rs:List Ln) (s:ab) (n:Nat) (h1:∀r∈rs,r.1<+:s→r.1.length≤n) (h2:n=0∨∃r∈rs,r.1<+:s∧n=r.1.length):aL rs s=n:=by
 have a:n≤aL rs s:=by
  rcases h2 with h2|⟨r,hr,hp,e⟩
  ·omega
  ·rw [e];exact rn rs s r hr hp
 have b:aL rs s≤n:=by
  rcases gE rs s with h|⟨r,hr,hp,e⟩
  ·omega
  ·rw [e];exact h1 r hr hp
 omega
theorem rZ {rs:List Ln} (h:eV rs) (s:ab) (r:Ln) (hr:r∈rs) (hp:r.1<+:s):r.1.length≤bp (eb rs (kh rs s)) s:=by
 refine uX _ _ _ ?_ hp
 obtain ⟨k,hk,rfl⟩:=List.getElem_of_mem hr
 have h1:k<kh rs s:=by
  refine Nat.lt_of_not_le fun h2=>?_
  exact NM hp (ED h s k h2 hk)
 obtain ⟨m,hm⟩:∃m,kh rs s=m+1:=⟨kh rs s-1,by omega⟩
 have hm':m<rs.length:=by have:=nn rs s;omega
 rw [hm,eo rs m hm']
 have h3:¬s<rs[m].1:=uY rs s m (by omega)
 refine yB hp ?_ h3
 by_cases e:k=m
 ·subst e;exact List.lt_irrefl _
 ·exact fun h4=>List.lt_asymm h4 (h.rise (by omega) hm')
theorem EF {rs:List Ln} (h:eV rs) (s:ab) (he:bp (eb rs (kh rs s)) s=(eb rs (kh rs s)).length):aL rs s=bp (eb rs (kh rs s)) s:=by
 refine ro rs s _ (fun r hr hp=>rZ h s r hr hp) ?_
 cases ha:kh rs s with
 |zero=>exact .inl (by simp [eb,bp])
 |succ m=>
  have hm':m<rs.length:=by have:=nn rs s;omega
  rw [ha,eo rs m hm'] at he
  refine .inr ⟨rs[m],List.getElem_mem hm',?_,by rw [eo rs m hm',he]⟩
  have:=lh rs[m].1 s
  rwa [he,List.take_of_length_le (Nat.le_refl _)] at this
theorem EG {rs:List Ln} (h:eV rs) (s:ab) (he:bp (eb rs (kh rs s)) s≠(eb rs (kh rs s)).length):bp (eb rs (kh rs s)) s<s.length∧aL rs (s.take (bp (eb rs (kh rs s)) s))=aL rs s:=by
 have l1:=rV (eb rs (kh rs s)) s
 have l2:=rW (eb rs (kh rs s)) s
 constructor
 ·refine Nat.lt_of_not_le fun h1=>?_
  have e2:bp (eb rs (kh rs s)) s=s.length:=by omega
  have hp:=lh (eb rs (kh rs s)) s
  rw [e2] at hp l1 he
  cases ha:kh rs s with
  |zero=>rw [ha] at he l1;simp [eb] at he l1;exact he l1
  |succ m=>
   have hm':m<rs.length:=by have:=nn rs s;omega
   have h3:¬s<rs[m].1:=uY rs s m (by omega)
   rw [ha,eo rs m hm'] at hp he l1
   have e3:rs[m].1.take s.length=s:=hp.eq_of_length (by rw [List.length_take];omega)
   apply h3
   have h4:s<+:rs[m].1:=by
    have:=List.take_prefix s.length rs[m].1
    rwa [e3] at this
   obtain ⟨z,hz⟩:=h4
   rw [←hz]
   cases z with
   |nil=>simp at hz;rw [hz] at he;exact absurd rfl he
   |cons c z=>
    have:∀(a:ab),a<a++c::z:=by
     intro a
     induction a with
     |nil=>exact List.nil_lt_cons _ _
     |cons x a ih=>rw [List.cons_append,List.cons_lt_cons_iff];exact .inr ⟨rfl,ih⟩
    exact this s
 ·refine ro rs _ _ (fun r hr hp=>rn rs s r hr (hp.trans (List.take_prefix _ _))) ?_
  rcases gE rs s with e|⟨r,hr,hp,e⟩
  ·exact .inl e
  ·refine .inr ⟨r,hr,?_,e⟩
   exact List.prefix_of_prefix_length_le hp (List.take_prefix _ _) (by
    rw [List.length_take]
    have:=rZ h s r hr hp
    have:=hp.length_le
    omega)
def gO (s:ab) (a m:Int):ab:=if a<0∨m<1 then [] else (s.drop a.toNat).take m.toNat
theorem lj (rs:List Ln):aL rs []=0:=by have:=ma rs [];simpa using this
end Go.Proofs.YtajpoodpbbbkfaaGreatDoor
namespace Go.Proofs.YtajpoodpbbbkfaaGreatDoor
open Go.RowKit Go.Lib
theorem jp:∀(L:List UInt8) (c:UInt8) (z:List UInt8),c∉L→Lib.indexByte (L++c::z) c=(L.length:Int)
 |[],c,z,_=>by simp [Lib.indexByte]
 |b::L,c,z,h=>by
  rw [List.mem_cons,not_or] at h
  have ih:=jp L c z h.2
  rw [List.cons_append,Lib.indexByte,if_neg (by simpa using fun e=>h.1 e.symm),ih]
  rw [if_neg (by simp)]
  simp
theorem iH:∀(L:List UInt8) (c:UInt8),c∉L→Lib.indexByte L c= -1
 |[],c,_=>rfl
 |b::L,c,h=>by
  rw [List.mem_cons,not_or] at h
  have ih:=iH L c h.2
  rw [Lib.indexByte,if_neg (by simpa using fun e=>h.1 e.symm),ih]
  rfl
theorem u0 (s:ByteArray) (w:World) (hs:s.size≤1099511627776):Calls Tryz.prog 192 #[.string s] w fun e w'=>e= .returned (.string s)∧Below w.heap.size w w':=by
 go_enter Tryz.func192,Tryz.ntmps192
 go_wp2_with (go_at_call 222;refine (Tryz.stringslite_Clone s _ (by omega)).mono ?_)
 rintro e w1 ⟨rfl,b1⟩
 go_wp2
 go_ret
 exact ⟨rfl,b1⟩
def ua (L rest:List UInt8):Value:= .tuple #[.string ⟨L.toArray⟩,.string ⟨rest.tail.toArray⟩,.bool (!rest.isEmpty)]
theorem KX (s : ByteArray) (c : UInt8) (L rest : List UInt8) (w : World) (hs : s.size ≤ 1099511627776) (he : s.data.toList = L ++ rest) (hc : c ∉ L) (hr : rest = [] ∨ ∃ z, rest = c :: z) :
    Calls Tryz.prog 155 #[.string s, .string ⟨#[c]⟩] w fun e w' => e = .returned (ua L rest) ∧ ∃ n, w' = w.drewN n := by
  have hsl : s.size = L.length + rest.length := by rw [Lib.size_eq, he, List.length_append]
  rcases hr with rfl | ⟨z, rfl⟩
  · have hx := Lib.hid (show Lib.indexByte s.data.toList c = -1 by rw [he, List.append_nil]; exact iH L c hc)
    have HS := Lib.hid (show (⟨L.toArray⟩ : ByteArray) = s from bl (by rw [he]; simp))
    clear he hsl
    go_enter Tryz.func155, Tryz.ntmps155
    go_wp2_with (go_at_call 186; refine (Tryz.stringslite_Index_one s c _).mono ?_; rintro e w' ⟨rfl, rfl⟩; rw [hx.out])
    go_ret3
    refine ⟨?_, 0, rfl⟩
    unfold ua
    rw [HS.out]; rfl
  · have hx := Lib.hid (show Lib.indexByte s.data.toList c = (L.length : Int) by rw [he]; exact jp L c z hc)
    have hl2 : L.length + 1 ≤ s.size := by rw [hsl]; simp
    have HA := Lib.hid (show s.extract 0 L.length = ⟨L.toArray⟩ from bl (by rw [extract_data, he]; simp))
    have HB := Lib.hid (show s.extract (L.length + 1) s.size = ⟨z.toArray⟩ from bl (by
      have e : (L ++ c :: z).drop (L.length + 1) = z := by simp
      rw [List.length_cons] at hsl
      rw [extract_data, he, e, List.take_of_length_le (by omega)]))
    clear he hsl
    obtain ⟨l, hl⟩ : ∃ l, l = L.length := ⟨_, rfl⟩
    rw [← hl] at hx hl2 HA HB
    clear hl
    have HI := fun w => Lib.hid (Tryz.stringslite_Index_one s c w)
    obtain ⟨sep, hsep, hs1⟩ : ∃ sep : ByteArray, sep = ⟨#[c]⟩ ∧ sep.size = 1 := ⟨_, rfl, rfl⟩
    rw [← hsep] at HI ⊢
    clear hsep
    rw [← hs1] at hl2 HB
    have hs1' := Lib.hid hs1
    clear hs1
    have c1 : (0 : Int) ≤ (l : Int) := by omega
    have c2 : (l : Int) ≤ (s.size : Int) := by omega
    have c3 : (0 : Int) ≤ (l : Int) + (sep.size : Int) := by omega
    have c4 : (l : Int) + (sep.size : Int) ≤ (s.size : Int) := by omega
    have c5 : IntKind.i64.wrap ((l : Int) + (sep.size : Int)) = (l : Int) + (sep.size : Int) := by rw [IntKind.wrap_i64]; omega
    have c6 : ((l : Int) + (sep.size : Int)).toNat = l + sep.size := by omega
    go_enter Tryz.func155, Tryz.ntmps155
    go_wp2_with (go_at_call 186; refine ((HI _).out).mono ?_; rintro e w' ⟨rfl, rfl⟩; rw [hx.out])
    go_quiet (fail)
    go_wp2
    go_ret3
    refine ⟨?_, _, rfl⟩
    unfold ua
    first | (rw [HA.out, HB.out]; rfl) | trace_state
theorem mc (s:ByteArray) (c:UInt8) (L rest:List UInt8) (w:World) (hs:s.size≤1099511627776) (he:s.data.toList=L++rest) (hc:c∉L) (hr:rest=[]∨∃z,rest=c::z):Calls Tryz.prog 105 #[.string s,.string ⟨#[c]⟩] w fun e w'=>e= .returned (ua L rest)∧∃n,w'=w.drewN n:=by
 have HC:=Lib.hid (fun w=>KX s c L rest w hs he hc hr)
 clear he hc hr
 unfold ua at*
 go_enter Tryz.func105,Tryz.ntmps105
 go_wp2_with (go_at_call 155;refine (HC.out _).mono ?_)
 rintro e w1 ⟨rfl,n,rfl⟩
 go_wp2
 go_ret3
 exact ⟨rfl,n,rfl⟩
end Go.Proofs.YtajpoodpbbbkfaaGreatDoor
namespace Go.Proofs.YtajpoodpbbbkfaaGreatDoor
open Go.RowKit Go.Lib
theorem rp:∀(x y:List UInt8),Op.bytesLess x y=decide (x<y)
 |[],[]=>by simp [Op.bytesLess]
 |[],b::y=>by simp [Op.bytesLess]
 |a::x,[]=>by simp [Op.bytesLess]
 |a::x,b::y=>by
  have ih:=rp x y
  have e:(a::x<b::y)↔(a<b∨a=b∧x<y):=List.cons_lt_cons_iff
  unfold Op.bytesLess
  rw [ih,Bool.eq_iff_iff]
  simp only [Bool.or_eq_true,Bool.and_eq_true,decide_eq_true_eq,beq_iff_eq,e]
def fZ (l:List UInt8):Value:= .string ⟨l.toArray⟩
def Pv (t s:ByteArray) (K R:List UInt8) (a b:Int) (u:Nat→Value):Act:=
 {tmps:=#[.string t,.string s,u 2,u 3,fZ K,fZ R,.int .i64 a,.int .i64 b,u 8,u 9,u 10,u 11,u 12,u 13,u 14,u 15,u 16,u 17,u 18,u 19,u 20,u 21,u 22,u 23,u 24,u 25,u 26,u 27,u 28,u 29,u 30,u 31,u 32,u 33,u 34,u 35,u 36,u 37,u 38,u 39,u 40,u 41,u 42,u 43,u 44,u 45,u 46,u 47,u 48,u 49,u 50,u 51,u 52,u 53,u 54,u 55,u 56,u 57,u 58,u 59,u 60,u 61,u 62],defers:=[]}
theorem r4 (t s:ByteArray) (rs:List Ln) (w:World) (hs:t.size≤1099511627776) (ht:t.data.toList=aZ rs) (hv:eV rs):Calls Tryz.prog 234 #[.string t,.string s] w fun e w'=>e= .returned (.tuple #[fZ (eb rs (kh rs s.data.toList)),fZ (jo rs (kh rs s.data.toList))])∧∃n,w'=w.drewN n:=by
 have hts:t.size=(aZ rs).length:=by rw [Lib.size_eq,ht]
 obtain ⟨A,hA⟩:∃A,kh rs s.data.toList=A:=⟨_,rfl⟩
 rw [hA]
 have HA:=Lib.hid hA
 clear hA
 go_enter Tryz.func234,Tryz.ntmps234
 go_wp2
 refine cV 0 (fun a' wr=>∃(i j n:Nat),a'=Pv t s (eb rs i) (jo rs i) (aR rs i:Int) (wI rs j:Int) (fun n=>a'.tmps.getD n undef)∧wr=w.drewN n∧i≤j∧j≤rs.length∧(∀k (hk:k<rs.length),k<i→¬s.data.toList<rs[k].1)∧(∀k (hk:k<rs.length),j≤k→s.data.toList<rs[k].1)) (fun a' _=>(ae (a'.tmps.getD 7 undef)).toNat-(ae (a'.tmps.getD 6 undef)).toNat) rfl ?_ ?_
 ·rintro a' wr ⟨i,j,n,hfr,rfl,hij,hj,hlo,hhi⟩
  obtain ⟨u,rfl⟩:∃u,a'=Pv t s (eb rs i) (jo rs i) (aR rs i:Int) (wI rs j:Int) u:=⟨_,hfr⟩
  clear hfr
  unfold Pv
  by_cases hend:i=j
  ·subst hend
   have h1:=G8 rs i i (Nat.le_refl _)
   obtain rfl:i=A:=(G9 s.data.toList i hj hlo hhi).symm.trans HA.out
   clear HA hlo hhi
   go_wp2
   simp only [Exit.jump]
   go_ret2
   exact ⟨rfl,n,rfl⟩
  ·have hlt:i<j:=by omega
   obtain ⟨a,ha⟩:∃a,aR rs i=a:=⟨_,rfl⟩
   obtain ⟨b,hb⟩:∃b,wI rs j=b:=⟨_,rfl⟩
   have h1:a<b:=by
    have:=dL rs i j hlt hj
    have:=gk (rs[i]'(by omega))
    omega
   have h2:b≤t.size:=by rw [hts,←hb];exact rU rs j
   obtain ⟨k,hik,hkj,hkm,hL⟩:=Pu rs hv.1 t ht i j (a+(b-a)/2) hlt hj (by omega) (by omega)
   have hk:k<rs.length:=by omega
   obtain ⟨z,hz,hz2⟩:=Dw rs k j hkj hj
   obtain ⟨c,hc⟩:∃c,aR rs k=c:=⟨_,rfl⟩
   have hac:a≤c:=by rw [←ha,←hc];exact jc rs hik
   rw [hc] at hkm hL hz
   rw [ha] at hL
   rw [hb] at hz
   have hcl:=dL rs k j hkj hj
   rw [hb,hc] at hcl
   have hg:=hv.1 _ (List.getElem_mem hk)
   obtain ⟨r,hr⟩:∃r,rs[k]=r:=⟨_,rfl⟩
   rw [hr] at hz hcl hg
   have hlen:=gk r
   have hsz1:(t.extract c b).size≤1099511627776:=by rw [ByteArray.size_extract];omega
   have HC1:=fun w=>Lib.hid (mc (t.extract c b) 10 (cZ r) z w hsz1 (by rw [extract_data,ht,←List.drop_take,hz]) hg.line hz2)
   have HC2:=fun w=>Lib.hid (mc ⟨(cZ r).toArray⟩ 32 r.1 (32::r.2) w (by rw [Lib.size_eq,List.toList_toArray];omega) rfl hg.2.1 (.inr ⟨_,rfl⟩))
   have HL:=Lib.hid hL
   have HSL:=Lib.hid (show (⟨(cZ r).toArray⟩:ByteArray).size=(cZ r).length by rw [Lib.size_eq,List.toList_toArray])
   have Ha:=Lib.hid ha
   have Hb:=Lib.hid hb
   have Hc:=Lib.hid hc
   have Hr:=Lib.hid hr
   rw [ha,hb]
   have HLO:=Lib.hid hlo
   have HHI:=Lib.hid hhi
   have HZ:=Lib.hid hz
   have HG:=Lib.hid hg
   clear ha hb hc hr hL hz hz2 hg hlo hhi ht hts hsz1
   have hm1:(t.extract a (a+(b-a)/2)).size<4611686018427387904:=by rw [ByteArray.size_extract];omega
   have e1:(a:Int)+((c:Int)-(a:Int)-1)+1=(c:Int):=by omega
   unfold ua at HC1 HC2
   rcases Std.lt_trichotomy s.data.toList r.1 with h|h|h
   ·have b1:Op.bytesLess r.1 s.toList=false:=by rw [rp,ByteArray.toList_eq];exact decide_eq_false (List.lt_asymm h)
    have b2:(r.1==s.toList)=false:=by rw [ByteArray.toList_eq,beq_eq_false_iff_ne];intro e;rw [e] at h;exact List.lt_irrefl _ h
    have HLT:=Lib.hid h
    clear h
    go_wp2_with (go_at_call 241;refine (Tryz.strings_LastIndexByte _ 10 hm1 _).mono ?_;rintro e w' ⟨rfl,rfl⟩;rw [HL.out])
    refine (HC1 _).out.mono ?_
    rintro e w1 ⟨rfl,n1,rfl⟩
    go_wp2_with (fail)
    refine (HC2 _).out.mono ?_
    rintro e w1 ⟨rfl,n2,rfl⟩
    go_wp2
    go_step3
    refine ⟨rfl,⟨i,k,n+n1+n2,?_,rfl,by omega,by omega,HLO.out,fun q hq hqk=>EE hv _ k q hk hq hqk (by rw [Hr.out];exact HLT.out)⟩,?_⟩
    ·rw [NL rs k hk,Hc.out,Ha.out]
     rfl
    ·simp [ae];omega
   focus
    have b2:(r.1==s.toList)=true:=by rw [ByteArray.toList_eq,beq_iff_eq];exact h.symm
    have HLT:=Lib.hid (show ¬s.data.toList<r.1 by rw [h];exact List.lt_irrefl _)
   rotate_left
   focus
    have b1:Op.bytesLess r.1 s.toList=true:=by rw [rp,ByteArray.toList_eq];exact decide_eq_true h
    have HLT:=Lib.hid (List.lt_asymm h)
   rotate_left
   all_goals
    clear h
    go_wp2_with (go_at_call 241;refine (Tryz.strings_LastIndexByte _ 10 hm1 _).mono ?_;rintro e w' ⟨rfl,rfl⟩;rw [HL.out])
    refine (HC1 _).out.mono ?_
    rintro e w1 ⟨rfl,n1,rfl⟩
    go_wp2_with (fail)
    refine (HC2 _).out.mono ?_
    rintro e w1 ⟨rfl,n2,rfl⟩
    go_wp2
    go_step3
    refine ⟨rfl,⟨k+1,j,n+n1+n2,?_,rfl,by omega,hj,fun q hq hqk=>uZ hv _ k q hk (by omega) (by rw [Hr.out];exact HLT.out),HHI.out⟩,?_⟩
    ·rw [eo rs k hk,li rs k hk,gl rs k hk,Hr.out,Hb.out,Hc.out,hlen]
     push_cast
     rfl
    ·simp [ae];omega
 ·intro hpass
  go_wp2
  go_step3
  rename_i K hK
  refine hK _ _ (hpass _ _ ?_)
  exact ⟨0,rs.length,0,by rw [jd,←hts];rfl,rfl,Nat.zero_le _,Nat.le_refl _,fun k _ h=>by omega,fun k h1 h2=>by omega⟩
end Go.Proofs.YtajpoodpbbbkfaaGreatDoor
namespace Go.Proofs.YtajpoodpbbbkfaaGreatDoor
open Go.RowKit Go.Lib
theorem ai (B:Nat) (w:World) (n:Nat):Below B w (w.drewN n):=⟨rfl,rfl,rfl,Nat.le_refl _,fun _ _=>rfl⟩
theorem je (a:ByteArray) (k:Nat) (h:k<a.size):a.data.toList[k]'(by rw [←Lib.size_eq];exact h)=a[k]:=by
 rw [Array.getElem_toList];rfl
theorem EI (a b:ByteArray) (k T:Nat) (ha:k<a.size) (hb:k<b.size) (h:((a[k].toNat:Nat):Int)=(b[k].toNat:Int)) (hT:bp (a.data.toList.drop k) (b.data.toList.drop k)+k=T):bp (a.data.toList.drop (k+1)) (b.data.toList.drop (k+1))+(k+1)=T:=by
 rw [qw _ _ k (by rw [←Lib.size_eq];exact ha) (by rw [←Lib.size_eq];exact hb),je a k ha,je b k hb,if_pos (UInt8.toNat_inj.1 (by omega))] at hT
 omega
theorem Hd (a b:ByteArray) (k T:Nat) (ha:k<a.size) (hb:k<b.size) (h:¬((a[k].toNat:Nat):Int)=(b[k].toNat:Int)) (hT:bp (a.data.toList.drop k) (b.data.toList.drop k)+k=T):k=T:=by
 rw [qw _ _ k (by rw [←Lib.size_eq];exact ha) (by rw [←Lib.size_eq];exact hb),je a k ha,je b k hb,if_neg (fun e=>h (by rw [e]))] at hT
 omega
theorem EJ (a b:ByteArray) (w:World) (hs:a.size≤1099511627776):Calls Tryz.prog 235 #[.string a,.string b] w fun e w'=>e= .returned (.int .i64 (bp a.data.toList b.data.toList:Int))∧∃n,w'=w.drewN n:=by
 obtain ⟨T,hT⟩:∃T,bp a.data.toList b.data.toList=T:=⟨_,rfl⟩
 rw [hT]
 obtain ⟨m,hm⟩:∃m:Nat,min (a.size:Int) (b.size:Int)=(m:Int):=⟨min a.size b.size,by omega⟩
 have hm1:m≤a.size:=by omega
 have hm2:m≤b.size:=by omega
 have hm3:a.size≤m∨b.size≤m:=by omega
 have HM3:=Lib.hid hm3
 clear hm3
 have HT:=Lib.hid (show bp (a.data.toList.drop 0) (b.data.toList.drop 0)+0=T from hT)
 clear hT
 go_enter Tryz.func235,Tryz.ntmps235
 go_wp2
 go_loopw [11] (fun v wr=>∃(k n:Nat),v= .int .i64 (k:Int)∧wr=w.drewN n∧k≤m∧bp (a.data.toList.drop k) (b.data.toList.drop k)+k=T) (fun v _=>m-(ae v).toNat)
 case atStart=>exact ⟨0,0,rfl,rfl,Nat.zero_le _,HT.out⟩
 case round=>
  obtain ⟨k,n,rfl,rfl,hk,hT⟩:=hrel
  have HK:=Lib.hid hT
  clear hT HT
  by_cases hlt:k<m
  ·have ka:k<a.size:=by omega
   have kb:k<b.size:=by omega
   by_cases he:((a[k].toNat:Nat):Int)=(b[k].toNat:Int)
   ·have hb:(((a[k].toNat:Nat):Int) != ((b[k].toNat:Nat):Int))=false:=by simpa using he
    have HE:=Lib.hid he
    clear he
    go_wp2
    go_quiet (fail)
    go_wp2
    go_roundw
    case rel=>exact ⟨k+1,_,rfl,rfl,by omega,EI a b k T ka kb HE.out HK.out⟩
    case measure=>simp [ae];omega
   ·have hb:(((a[k].toNat:Nat):Int) != ((b[k].toNat:Nat):Int))=true:=by simpa using he
    have HE:=Lib.hid he
    clear he
    go_wp2
    go_quiet (fail)
    go_wp2
    go_ret
    exact ⟨az (by rw [←Hd a b k T ka kb HE.out HK.out]),_,World.drewN_drewN ..⟩
  ·obtain rfl:k=m:=by omega
   go_wp2
   go_ret
   exact ⟨az (by
    have:=HK.out
    rw [Bv _ _ k (by rw [←Lib.size_eq,←Lib.size_eq];exact HM3.out)] at this
    omega),_,rfl⟩
theorem yE (t key : ByteArray) (rs : List Ln) (w : World) (hs : t.size ≤ 1099511627776) (ht : t.data.toList = aZ rs) (hv : eV rs) :
    Calls Tryz.prog 219 #[.string t, .string key] w fun e w' => e = .returned (.tuple #[fZ ((jx rs key.data.toList).getD []), .bool (jx rs key.data.toList).isSome]) ∧ Below w.heap.size w w' := by
  have HC := fun w => Lib.hid (r4 t key rs w hs ht hv)
  have HY := fun h1 h2 => Lib.hid (yD hv key.data.toList h1 h2)
  have HN := fun h => Lib.hid (KW hv key.data.toList h)
  have HR := fun h1 h2 => Lib.hid (show (jo rs (kh rs key.data.toList)).length ≤ t.size by
    have h3 := yD hv key.data.toList h1 h2
    cases ha : kh rs key.data.toList with
    | zero => simp [jo]
    | succ i =>
      have hi : i < rs.length := by have := nn rs key.data.toList; omega
      have h5 := dL rs i rs.length hi (Nat.le_refl _)
      rw [jd, ← ht, ← Lib.size_eq, gk] at h5
      rw [li rs i hi]
      omega)
  obtain ⟨K, hK⟩ : ∃ K, eb rs (kh rs key.data.toList) = K := ⟨_, rfl⟩
  obtain ⟨R, hR⟩ : ∃ R, jo rs (kh rs key.data.toList) = R := ⟨_, rfl⟩
  rw [hK, hR] at HC
  rw [hK] at HY HN HR
  rw [hR] at HY HR
  clear hK hR ht hv
  obtain ⟨V, hV⟩ : ∃ V, jx rs key.data.toList = V := ⟨_, rfl⟩
  rw [hV] at HY HN ⊢
  clear hV
  unfold fZ at *
  by_cases h0 : key.toList = []
  · obtain rfl : V = none := (HN (.inl (by rw [← ByteArray.toList_eq]; exact h0))).out
    clear HY HN HR
    have h0' : key.toList.isEmpty = true := by rw [h0]; rfl
    go_enter Tryz.func219, Tryz.ntmps219
    go_wp2_with (fail)
    refine (HC _).out.mono ?_
    rintro e w1 ⟨rfl, n1, rfl⟩
    go_wp2
    go_ret2
    exact ⟨rfl, ai _ w n1⟩
  · have h0' : key.toList.isEmpty = false := by simpa using h0
    by_cases h1 : K = key.toList
    · have HV := HY (by rw [← ByteArray.toList_eq]; exact h0) (by rw [← ByteArray.toList_eq]; exact h1)
      have HRR := HR (by rw [← ByteArray.toList_eq]; exact h0) (by rw [← ByteArray.toList_eq]; exact h1)
      obtain rfl := HV.out
      have h1' : (K == key.toList) = true := by simpa using h1
      have hrs : (⟨R.toArray⟩ : ByteArray).size ≤ 1099511627776 := by rw [Lib.size_eq, List.toList_toArray]; have := HRR.out; omega
      clear HY HN HR HV HRR h1
      go_enter Tryz.func219, Tryz.ntmps219
      go_wp2_with (fail)
      refine (HC _).out.mono ?_
      rintro e w1 ⟨rfl, n1, rfl⟩
      go_wp2_with (go_at_call 192; refine (u0 _ _ hrs).mono ?_)
      rintro e w2 ⟨rfl, b2⟩
      go_wp2
      go_ret2
      exact ⟨rfl, (ai _ w n1).trans b2⟩
    · obtain rfl : V = none := (HN (.inr (by rw [← ByteArray.toList_eq]; exact h1))).out
      have h1' : (K == key.toList) = false := by simpa using h1
      clear HY HN HR h1
      go_enter Tryz.func219, Tryz.ntmps219
      go_wp2_with (fail)
      refine (HC _).out.mono ?_
      rintro e w1 ⟨rfl, n1, rfl⟩
      go_wp2
      go_ret2
      exact ⟨rfl, ai _ w n1⟩
theorem lk (s:ByteArray) (a m:Int) (h:a<0∨(s.size:Int)≤a∨m<1):gO s.data.toList a m=[]:=by
 unfold gO
 split
 ·rfl
 ·rw [List.drop_eq_nil_of_le (by rw [←Lib.size_eq];omega),List.take_nil]
def Ng:Value→Nat| .string l=>l.size|_=>0
theorem yF (t s : ByteArray) (a m : Int) (rs : List Ln) (w : World) (hs : t.size ≤ 1099511627776) (ha : -9223372036854775808 ≤ a ∧ a ≤ 9223372036854775807) (hm : -9223372036854775808 ≤ m ∧ m ≤ 9223372036854775807) (ht : t.data.toList = aZ rs) (hv : eV rs) :
    Calls Tryz.prog 218 #[.string t, .string s, .int .i64 a, .int .i64 m] w fun e w' => e = .returned (.int .i64 (aL rs (gO s.data.toList a m) : Int)) ∧ ∃ n, w' = w.drewN n := by
  by_cases h1 : a < 0
  · have HZ := Lib.hid (show aL rs (gO s.data.toList a m) = 0 by rw [lk s a m (.inl h1), lj])
    rw [HZ.out]
    clear HZ ht hv
    go_enter Tryz.func218, Tryz.ntmps218
    go_wp2
    go_ret
    exact ⟨rfl, 0, rfl⟩
  by_cases h2 : (s.size : Int) ≤ a
  · have HZ := Lib.hid (show aL rs (gO s.data.toList a m) = 0 by rw [lk s a m (.inr (.inl h2)), lj])
    rw [HZ.out]
    clear HZ ht hv
    go_enter Tryz.func218, Tryz.ntmps218
    go_wp2
    go_ret
    exact ⟨rfl, 0, rfl⟩
  by_cases h3 : m < 1
  · have HZ := Lib.hid (show aL rs (gO s.data.toList a m) = 0 by rw [lk s a m (.inr (.inr h3)), lj])
    rw [HZ.out]
    clear HZ ht hv
    go_enter Tryz.func218, Tryz.ntmps218
    go_wp2
    go_ret
    exact ⟨rfl, 0, rfl⟩
  obtain ⟨k, rfl⟩ : ∃ k : Nat, a = k := ⟨a.toNat, by omega⟩
  obtain ⟨T, hT⟩ : ∃ T, aL rs (gO s.data.toList k m) = T := ⟨_, rfl⟩
  rw [hT]
  have HT := Lib.hid hT
  clear hT
  have hk : k < s.size := by omega
  have HTS := Lib.hid (show (aZ rs).length = t.size by rw [← ht, ← Lib.size_eq])
  have HC := fun s w => Lib.hid (r4 t s rs w hs ht hv)
  have HA := fun a b w h => Lib.hid (EJ a b w h)
  unfold fZ at *
  obtain ⟨p, hp⟩ : ∃ p : Nat, min m ((s.size - k : Nat) : Int) = (p : Int) := ⟨(min m ((s.size - k : Nat) : Int)).toNat, by omega⟩
  have hp1 : p ≤ s.size - k := by omega
  have hp2 : 1 ≤ p := by omega
  have HT0 := Lib.hid (show aL rs ((s.extract k s.size).extract 0 p).data.toList = T by
    rw [← HT.out]
    congr 1
    unfold gO
    rw [if_neg (by omega), extract_data, extract_data]
    rw [show ((k : Nat) : Int).toNat = k by omega, List.drop_zero, Nat.sub_zero, List.take_take]
    have e1 : s.data.toList.drop k = (s.data.toList.drop k).take (s.size - k) := by rw [List.take_of_length_le (by rw [List.length_drop, ← Lib.size_eq]; omega)]
    conv => rhs; rw [e1, List.take_take]
    congr 1
    omega)
  have HSZ := Lib.hid (show ((s.extract k s.size).extract 0 p).size ≤ s.size by rw [ByteArray.size_extract, ByteArray.size_extract]; omega)
  clear ht HT
  go_enter Tryz.func218, Tryz.ntmps218
  go_wp2
  go_loopw [1] (fun v wr => ∃ (l : ByteArray) (n : Nat), v = .string l ∧ wr = w.drewN n ∧ l.size ≤ s.size ∧ aL rs l.data.toList = T) (fun v _ => Ng v)
  case atStart => exact ⟨_, 0, rfl, rfl, HSZ.out, HT0.out⟩
  case round =>
    obtain ⟨l, n, rfl, rfl, hl, hB⟩ := hrel
    clear HT0 HSZ
    obtain ⟨K, hK⟩ : ∃ K, eb rs (kh rs l.data.toList) = K := ⟨_, rfl⟩
    obtain ⟨R, hR⟩ : ∃ R, jo rs (kh rs l.data.toList) = R := ⟨_, rfl⟩
    have HC1 := fun w => HC l w
    rw [hK, hR] at HC1
    obtain ⟨c, hc⟩ : ∃ c, bp K l.data.toList = c := ⟨_, rfl⟩
    have hKl : (⟨K.toArray⟩ : ByteArray).size = K.length := by rw [Lib.size_eq, List.toList_toArray]
    have hKt : K.length ≤ t.size := by
      rw [← hK]
      cases ha : kh rs l.data.toList with
      | zero => simp [eb]
      | succ i =>
        have hi : i < rs.length := by have := nn rs l.data.toList; omega
        have h5 := dL rs i rs.length hi (Nat.le_refl _)
        have h6 := HTS.out
        rw [jd, gk] at h5
        rw [eo rs i hi]
        omega
    have HA1 := fun w => HA ⟨K.toArray⟩ l w (by omega)
    have hKd : (⟨K.toArray⟩ : ByteArray).data.toList = K := List.toList_toArray
    rw [hKd, hc] at HA1
    by_cases he : c = K.length
    · have b1 : ((c : Int) == (K.length : Int)) = true := by rw [beq_iff_eq]; omega
      have hd := EF hv l.data.toList (by rw [hK, hc]; exact he)
      rw [hK, hc, hB] at hd
      have HD := Lib.hid hd
      have HKL := Lib.hid hKl
      clear hK hR hc hKl hKd hB he hd hKt
      go_wp2_with (fail)
      refine (HC1 _).out.mono ?_
      rintro e w1 ⟨rfl, n1, rfl⟩
      go_wp2_with (fail)
      refine (HA1 _).out.mono ?_
      rintro e w1 ⟨rfl, n2, rfl⟩
      go_wp2
      go_ret
      exact ⟨az (by rw [HD.out]), _, rfl⟩
    · have b1 : ((c : Int) == (K.length : Int)) = false := by rw [beq_eq_false_iff_ne]; omega
      obtain ⟨hd1, hd2⟩ := EG hv l.data.toList (by rw [hK, hc]; exact he)
      rw [hK, hc] at hd1 hd2
      rw [hB] at hd2
      have HD := Lib.hid hd2
      have HKL := Lib.hid hKl
      rw [← Lib.size_eq] at hd1
      clear hK hR hc hKl hKd hB he hd2 hKt
      go_wp2_with (fail)
      refine (HC1 _).out.mono ?_
      rintro e w1 ⟨rfl, n1, rfl⟩
      go_wp2_with (fail)
      refine (HA1 _).out.mono ?_
      rintro e w1 ⟨rfl, n2, rfl⟩
      go_wp2
      go_roundw
      case rel =>
        refine ⟨_, n + n1 + n2, rfl, rfl, by rw [ByteArray.size_extract]; omega, ?_⟩
        rw [extract_data, List.drop_zero, Nat.sub_zero]
        exact HD.out
      case measure => simp only [Ng, ByteArray.size_extract]; omega
end Go.Proofs.YtajpoodpbbbkfaaGreatDoor
namespace Go.Proofs.YtajpoodpbbbkfaaGreatDoor
def Small (st:List Ln):Prop:=∀r∈st,r.1.length≤40∧r.2.length≤40
end Go.Proofs.YtajpoodpbbbkfaaGreatDoor
namespace Go.Proofs.YtajpoodpbbbkfaaGreatDoor
open Go.RowKit Go.Lib
def cf (w:World) (a:Option Addr) (len cap:Nat) (l:List Ln):Prop:=
 l.length=len∧len≤cap∧cap≤maxLen∧∀i (h:i<l.length),∃x,a=some x∧w.cell? (x.add (i*2))=some (fZ l[i].1)∧w.cell? (x.add (i*2+1))=some (fZ l[i].2)
theorem cf.below {w w':World} {B:Nat} {a:Option Addr} {len cap:Nat} {l:List Ln} (h:cf w a len cap l) (hb:Below B w w') (hB:w.heap.size≤B):cf w' a len cap l:=by
 refine ⟨h.1,h.2.1,h.2.2.1,fun i hi=>?_⟩
 obtain ⟨x,hx,h1,h2⟩:=h.2.2.2 i hi
 have b1:=block_lt_of_cell h1
 have b2:=block_lt_of_cell h2
 exact ⟨x,hx,(hb.cell (by omega)).trans h1,(hb.cell (by omega)).trans h2⟩
theorem NN (c:UInt8) (n:Nat) (hn:n<256):(((c.toNat:Nat):Int)==(n:Int))=(c==UInt8.ofNat n):=by
 rw [Bool.eq_iff_iff,beq_iff_eq,beq_iff_eq]
 refine ⟨aT c n hn,fun e=>?_⟩
 subst e
 rw [UInt8.toNat_ofNat'];omega
end Go.Proofs.YtajpoodpbbbkfaaGreatDoor
namespace Go.Proofs.YtajpoodpbbbkfaaGreatDoor
open Go.RowKit Go.Lib
def fE (l:List Ln):List Value:=l.flatMap fun r=>[fZ r.1,fZ r.2]
theorem r5 (l:List Ln) (k r:ab):fE l++[fZ k,fZ r]=fE (l++[(k,r)]):=by simp [fE]
theorem pw:∀(l:List Ln) (i:Nat) (h:i<l.length),(fE l)[i*2]? =some (fZ l[i].1)∧(fE l)[i*2+1]? =some (fZ l[i].2)
 |x::l,0,_=>⟨rfl,rfl⟩
 |x::l,i+1,h=>by
  obtain ⟨a,b⟩:=pw l i (by simpa using h)
  rw [show fE (x::l)=fZ x.1::fZ x.2::fE l from rfl,show (i+1)*2=i*2+1+1 by omega]
  simp only [List.getElem?_cons_succ,List.getElem_cons_succ]
  exact ⟨a,b⟩
theorem iI {w:World} {base e:Nat} {v:Value} (l:List Ln) (h:w.ownsRow base e 2 v l.length (fE l)):∃a cap,v= .slice a l.length cap∧cf w a l.length cap l:=by
 have hc:=fun g hg=>h.cells (g:=g) hg
 rcases h.2 with ⟨rfl,h0⟩|⟨g,cap,cur,rfl,hb,hg,hn,hm,hs,htake⟩
 ·refine ⟨none,0,by rw [h0],rfl,by omega,by simp [maxLen],fun i hi=>by omega⟩
 ·refine ⟨_,cap,rfl,rfl,hn,hm,fun i hi=>⟨_,rfl,?_,?_⟩⟩
  ·exact hc g rfl _ _ (pw l i hi).1
  ·exact hc g rfl _ _ (pw l i hi).2
theorem Dx (wr:World) (a b:Value) (e:TypeId):∀(j:Nat) (u:Value),[a,b][j]? =some u→(wr.alloc (.cells #[a,b] e)).cell? ((⟨wr.heap.size,0,none⟩:Addr).add j)=some u:=by
 intro j u hj
 have e1:(⟨wr.heap.size,0,none⟩:Addr).add j=⟨wr.heap.size,j,none⟩:=by simp [Addr.add];omega
 rw [e1,cell_of_row _ _ _ _ _ _ (heap_alloc_new wr _)]
 simpa using hj
end Go.Proofs.YtajpoodpbbbkfaaGreatDoor
