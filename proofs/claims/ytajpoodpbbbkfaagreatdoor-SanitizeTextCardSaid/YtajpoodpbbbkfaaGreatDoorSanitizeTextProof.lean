/-
  The law SanitizeText of flail/flaillaw22 answers true for every input, and changes nothing that was there. Condition, which the card ties to the program's text: when the call begins, the package variables that the row lists hold what that text lays in them (math/bits.deBruijn32tab, math/bits.deBruijn64tab, internal/strconv.uint64pow10, strconv.ErrRange, strconv.ErrSyntax, flail/number.others).
-/
import Derived.Test.YtajpoodpbbbkfaaGreatDoorRows
import Derived.Test.YtajpoodpbbbkfaaGreatDoorSanAwake
import Derived.Test.YtajpoodpbbbkfaaGreatDoorDB
import Derived.Test.YtajpoodpbbbkfaaGreatDoorUB
import Derived.Test.YtajpoodpbbbkfaaGreatDoorCards
import Derived.Test.YtajpoodpbbbkfaaGreatDoorP6
import Derived.WalkKit
import Derived.ProofKit
import Derived.OpenShut
import Derived.ShutString
import Derived.ChangeOld
import Derived.Below
set_option maxHeartbeats 8000000
set_option maxRecDepth 100000
namespace Go.Proofs.YtajpoodpbbbkfaaGreatDoor.sanitizeText
open Go.ChangeShapes Go.WideShapes Go.ChangeAt Go.RowKit
open Go.ChangeMaps (open_string shut_string)
set_option linter.unusedVariables false
theorem own:ownKnob Tryz.prog.godebug=none:=by kernel_rfl
theorem laidOut:laidOutB Tryz.prog=true:=by kernel_rfl
def IsRow (k:IntKind) (w:World) (a:Option Addr) (len cap:Nat) (zs:List Int):Prop:=
 (a=none∧len=0∧cap=0∧zs=[])∨
 ∃x,a=some x∧len≤cap∧cap≤maxLen∧zs.length=cap∧(∀i,i<zs.length→w.cell? (x.add i)=some (.int k (zs.getD i 0)))∧∀n∈zs,(Lit.int k n).wf=true
theorem add_zero22 (x:Addr):x.add 0=x:=by unfold Addr.add;rw [if_pos rfl]
theorem walk (a0:Int) (a1:Option Addr) (len1 cap1:Nat) (z1:List Int) (w:World) (hT:bn w) (w0:(Lit.int .u8 a0).wf=true) (w1:IsRow .u8 w a1 len1 cap1 z1):Calls Tryz.prog 5 #[.int .u8 a0,.slice a1 len1 cap1] w fun e w'=>e= .returned (.bool true)∧Below w.heap.size w w':=by
 have hb0:0≤a0∧a0≤255:=by simpa [Lit.wf,IntKind.min,IntKind.max,IntKind.signed,IntKind.bits] using w0
 obtain ⟨l1,hl1,hc1⟩:=fw w1
 clear w0 w1
 have HW:=Lib.hid hT
 clear hT
 by_cases hlen:300<len1
 ·clear hl1 hc1
  go_enter Tryz.func5,Tryz.ntmps5
  go_wp2_with (fail)
  refine (bT w HW.out).mono ?_
  rintro e w1 ⟨rfl,c1⟩
  go_wp2
  go_ret
  exact ⟨rfl,c1⟩
 have d1:decide ((300:Int)<(len1:Int))=false:=decide_eq_false (by omega)
 obtain ⟨k,hkk⟩:∃k:Nat,a0%3=(k:Int):=⟨(a0%3).toNat,by omega⟩
 have h2k:k≤2:=by omega
 have C1:=Lib.hid hc1
 have X1:=Lib.hid (iU l1 (by omega))
 have T1:=Lib.hid (gN l1 (by omega))
 have hdr:=xU (k:Int) (by omega) l1
 have hby:=(j6 (k:Int) (by omega) l1).2.1
 rw [hby] at hdr
 have hln:=o6 (k:Int) l1
 have H1:=fun w h1 h2=>Lib.hid (rI (.slice a1 len1 cap1) l1 w h1 X1.out h2)
 have H2:=fun w h1 h2=>Lib.hid (fX (k:Int) (.slice a1 len1 cap1) l1 w (by omega) h1 X1.out T1.out h2)
 obtain ⟨X,hX,lX,sX⟩:=dP (bB (k:Int) l1)
 obtain ⟨E,hE,lE,-⟩:=dP (cT l1)
 rw [hX] at H2
 rw [hE] at H1
 rw [←lX] at hby hdr
 rw [←sX,hl1] at hln
 have hXs:X.size≤5400:=by omega
 have hDX:(⟨(gi X.data.toList).toArray⟩:ByteArray)=X:=by rw [hby]
 have H3:=fun v w h1=>Lib.hid (nf v X.data.toList w h1 (by rw [←Lib.size_eq];omega))
 rw [hDX] at H3
 have H4:=fun w h=>Lib.hid (pj X w (by omega) h)
 rw [hdr] at H4
 have kc:=fun (wx:World) (s:ByteArray)=>run_bytes_of_string (P:=Tryz.prog) wx 9 22 5 s Tryz.underlying9 Tryz.underlying22 Tryz.underlying5
 by_cases he:cT l1=[]
 ·obtain rfl:E=⟨#[]⟩:=by rw [←hE,he]
  rw [he,show aQ []=[] from rfl] at H4
  clear hlen hl1 hc1 hdr hby hln hX lX sX hE hDX lE he
  go_enter Tryz.func5,Tryz.ntmps5
  go_wp2_with (fail)
  refine (bT w HW.out).mono ?_
  rintro e w1 ⟨rfl,c1⟩
  have B1:=Lib.hid c1
  clear c1
  go_wp2_with (fail)
  refine (H1 _ (C1.out.kept B1.out) (HW.out.below B1.out)).out.mono ?_
  rintro e w2 ⟨rfl,c2⟩
  have B2:=Lib.hid (B1.out.trans (c2.mono B1.out.size))
  clear c2
  go_wp2_with (fail)
  refine (H2 _ (C1.out.kept B2.out) (HW.out.below B2.out)).out.mono ?_
  rintro e w3 ⟨rfl,c3⟩
  have B3:=Lib.hid (B2.out.trans (c3.mono B2.out.size))
  clear c3
  go_wp2_with (fail)
  refine (H3 _ _ (fU w3 X _ _ rfl (by unfold maxLen;omega))).out.mono ?_
  rintro e w4 ⟨rfl,c4⟩
  have B4:=Lib.hid (show Below w.heap.size w w4 from (dO B3.out B3.out.size _).trans (c4.mono (by have q:=B3.out.size;simp;omega)))
  clear c4
  go_wp2_with (fail)
  refine (H4 _ (HW.out.below B4.out)).out.mono ?_
  rintro e w5 ⟨x,l,c,rfl,t5,c5⟩
  have B5:=Lib.hid (B4.out.trans (c5.mono B4.out.size))
  obtain rfl:l=0:=by rw [←t5.1];rfl
  clear c5 t5
  go_wp2
  go_ret
  exact ⟨au (by simp),B5.out⟩
 ·have n1:¬E.toList=[]:=by rw [ByteArray.toList_eq,lE];exact he
  have n2:E.toList.isEmpty=false:=by
   cases h:E.toList with
   |nil=>exact absurd h n1
   |cons a t=>rfl
  rw [show aQ (cT l1)=[d9 (cT l1)] from if_neg he] at H4
  have HE:=Lib.hid hE
  clear hlen hl1 hc1 hdr hby hln hX lX sX hE hDX lE he
  go_enter Tryz.func5,Tryz.ntmps5
  go_wp2_with (fail)
  refine (bT w HW.out).mono ?_
  rintro e w1 ⟨rfl,c1⟩
  have B1:=Lib.hid c1
  clear c1
  go_wp2_with (fail)
  refine (H1 _ (C1.out.kept B1.out) (HW.out.below B1.out)).out.mono ?_
  rintro e w2 ⟨rfl,c2⟩
  have B2:=Lib.hid (B1.out.trans (c2.mono B1.out.size))
  clear c2
  go_wp2_with (fail)
  refine (H2 _ (C1.out.kept B2.out) (HW.out.below B2.out)).out.mono ?_
  rintro e w3 ⟨rfl,c3⟩
  have B3:=Lib.hid (B2.out.trans (c3.mono B2.out.size))
  clear c3
  go_wp2_with (fail)
  refine (H3 _ _ (fU w3 X _ _ rfl (by unfold maxLen;omega))).out.mono ?_
  rintro e w4 ⟨rfl,c4⟩
  have B4:=Lib.hid (show Below w.heap.size w w4 from (dO B3.out B3.out.size _).trans (c4.mono (by have q:=B3.out.size;simp;omega)))
  clear c4
  go_wp2_with (fail)
  refine (H4 _ (HW.out.below B4.out)).out.mono ?_
  rintro e w5 ⟨x,l,c,rfl,t5,c5⟩
  have B5:=Lib.hid (B4.out.trans (c5.mono B4.out.size))
  obtain ⟨x,ad,ln,cp,rfl,xc,-⟩:=t5.toks.2.2.2 0 (by simp)
  obtain rfl:l=1:=by rw [←t5.1];rfl
  obtain ⟨x0,x1,x2,x3,x4⟩:=xc.asked
  simp only [Nat.zero_mul,add_zero22,List.getElem_cons_zero,d9] at x0 x1 x2 x3 x4
  rw [HE.out] at x2
  clear c5 t5 xc
  go_wp2
  go_ret
  exact ⟨au (by simp),B5.out⟩
theorem laid_met (os:Os):laidMet Tryz.prog Rows.sanitizeTextRow.laid ((ci os).forCall (fun _ _=>0) ⟨#[],#[.int .u8 0,.slice none 0 0],[]⟩).memory:=
 laidMet_of_run' 8 (by kernel_rfl) (by kernel_rfl)
theorem reads (os:Os) {H:Type} (enc:TypeId × Value→H):∃places,DataW.whole enc Tryz.prog ((ci os).forCall (fun _ _=>0) ⟨#[],#[.int .u8 0,.slice none 0 0],[]⟩).memory Tryz.f5.params.toList Rows.sanitizeTextSpec.vars false (#[.int .u8 0,.slice none 0 0]:Array Value).toList 8=some ([.lit (.int .u8 0),.nil],[],places):=
 ⟨[],by kernel_rfl⟩
theorem lifted (os:Os) (started:os.Started) (H:Type) (enc:TypeId × Value→H) (F:Stop.Interp):ReturnsInHanded {} Tryz.checked os 5 .any ((OpenSpec.ofChange Rows.sanitizeTextSpec).preRow enc Tryz.prog Tryz.f5 Rows.sanitizeTextRow.domain false Rows.sanitizeTextRow.laid) (((OpenSpec.ofChange Rows.sanitizeTextSpec).at F).post enc Tryz.prog Tryz.f5 false true false false):=by
 obtain ⟨places,hx⟩:=reads os enc
 refine returnsInHanded_of_row (C:=Tryz.checked) (s:=OpenSpec.ofChange Rows.sanitizeTextSpec) own started (by kernel_rfl) Tryz.func5 (witness_row_at (enc:=enc) (C:=Tryz.checked) false (ci os) #[.int .u8 0,.slice none 0 0] rfl (by kernel_rfl) (by kernel_rfl) (by kernel_rfl) (OpenSpec.preRow_of_cond 8 hx (by kernel_rfl) (fun k hk=>by cases hk) (by kernel_rfl) (laid_met os))) ?_
 intro W base args ds gs before hval0 hW _ _ _ hL hsh _
 have hval:∀(j:Nat) t v,Tryz.f5.params[j]? =some t→args[j]? =some v→Value.okWide Tryz.prog W .any base t v:=hval0
 have hW':=hW
 obtain ⟨p,q,hA0,hV,rfl,hfz,hnd⟩:=hW
 have hA:DataW.TrodAll enc Tryz.prog W 0 (fun _=>true) true Tryz.f5.params.toList args.toList ds p:=hA0
 rw [Tryz.params5] at hA hval
 obtain ⟨v0,vs0,d0,ds0,p0,q0,hargs,rfl,rfl,h0,r0⟩:=trodAll_cons hA
 obtain ⟨v1,vs1,d1,ds1,p1,q1,rfl,rfl,rfl,h1,r1⟩:=trodAll_cons r0
 obtain ⟨rfl,rfl,rfl⟩:=trodAll_nil r1
 obtain rfl:args=#[v0,v1]:=by cases args;simp_all
 obtain ⟨rfl,rfl⟩:=trodVars_none hV
 obtain ⟨a0,rfl,rfl,rfl,w0⟩:=open_int Tryz.underlying5 (hval 0 5 v0 rfl rfl) h0
 obtain ⟨a1,len1,cap1,rfl⟩:=okWide_slice Tryz.underlying22 (hval 1 22 v1 rfl rfl)
 have k1:=h1
 have lt1:∀x∈p1,x.block<W.heap.size:=by obtain ⟨m,hm⟩:=k1;exact DataW.trod_lt m _ _ _ hm
 obtain ⟨z1,w1⟩:∃zs,IsRow .u8 W a1 len1 cap1 zs:=by
  obtain ⟨fuel,hf⟩:=h1
  rcases open_ints Tryz.underlying22 Tryz.underlying5 (by kernel_rfl) hf with ⟨hcs,_⟩|⟨x,l,c,zs,hcs,_,hl,hm,hz,_,hcell,hwz⟩
  ·simp [Value.cells] at hcs
   obtain ⟨rfl,rfl,rfl⟩:=hcs
   exact ⟨[],.inl ⟨rfl,rfl,rfl,rfl⟩⟩
  ·simp [Value.cells] at hcs
   obtain ⟨rfl,rfl,rfl⟩:=hcs
   exact ⟨zs,.inr ⟨_,rfl,hl,hm,by simpa using hz,hcell,hwz⟩⟩
 clear hA0 hval0
 refine (walk a0 a1 len1 cap1 z1 W (ly hL hsh) w0 w1).mono fun e W' ⟨he,bel⟩=>?_
 subst he
 exact ⟨_,rfl,_,_,_,[],_,[],hW',trodAll_mk1 (shut_bool Tryz.underlying4 _),(trodAll_cons_mk (shut_int Tryz.underlying5 w0) (trodAll_cons_mk (Below.trod laidOut (by kernel_rfl) (of_decide_eq_true (by kernel_rfl)) k1 bel lt1) trodAll_mk0)),rfl,bel.frame _,fun h=>by cases h⟩
theorem said:Rows.SanitizeTextSaid:=
 OpenClaim.holds_of_cond 5 Tryz.f5 rfl rfl rfl rfl rfl rfl rfl ⟨rfl,rfl,rfl,rfl,rfl⟩ rfl rfl rfl rfl rfl (by kernel_rfl) Tryz.func5 (by kernel_rfl) (of_decide_eq_true (by kernel_rfl)) (by unfold Func.isWrapper;first|(rw [if_pos (by decide+kernel)];kernel_rfl)|(rw [if_neg (by decide+kernel)];exact ⟨rfl,rfl⟩)) (fun os started H enc _ F=>by rw [OpenClaim.pre_eq_preRow];exact lifted os started H enc F)
theorem plain (f:FuncId) (fn:Func) (hf:Tryz.pinned.checked.prog.funcNamed "flail/flaillaw22.SanitizeText" =some f) (hfn:Tryz.pinned.checked.prog.funcs[f]? =some fn):true=Tryz.pinned.checked.prog.looks []∧∀(j:Nat) t,fn.params[j]? =some t→Tryz.pinned.checked.prog.wantsStandIn t=false:=by
 obtain rfl:f=5:=Option.some.inj ((show Tryz.prog.funcNamed "flail/flaillaw22.SanitizeText" =some 5 by kernel_rfl).symm.trans hf) |>.symm
 obtain rfl:fn=Tryz.f5:=(Option.some.inj (Tryz.func5.symm.trans hfn)).symm
 refine ⟨by kernel_rfl,fun j t ht=>?_⟩
 rw [Tryz.params5] at ht
 have hm:t∈[5,22]:=by first|simpa using Array.mem_of_getElem? ht|(have h:=Array.mem_of_getElem? ht;simp at h⊢;grind)
 have hall:([5,22].all fun u=> !Tryz.prog.wantsStandIn u)=true:=by kernel_rfl
 exact (show Tryz.prog.wantsStandIn t=false by simpa using List.all_eq_true.1 hall t hm)
theorem proved:Rows.SanitizeTextCardSaid:=
 Claim7.holds_tied_plain_at .later [] _ _ _ _ said (fun _ h=>by cases h) (by kernel_rfl) (fun _ h=>by cases h) sanitizeText_row_tie rfl ⟨rfl,rfl⟩ (by kernel_rfl) rfl plain (by kernel_rfl)
end Go.Proofs.YtajpoodpbbbkfaaGreatDoor.sanitizeText
