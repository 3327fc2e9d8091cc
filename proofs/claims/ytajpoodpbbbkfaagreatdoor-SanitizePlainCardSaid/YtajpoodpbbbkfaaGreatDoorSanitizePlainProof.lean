/-
  The law SanitizePlain of flail/flaillaw22 answers true for every input, and changes nothing that was there. Condition, which the card ties to the program's text: when the call begins, the package variables that the row lists hold what that text lays in them (math/bits.deBruijn32tab, math/bits.deBruijn64tab, internal/strconv.uint64pow10, strconv.ErrRange, strconv.ErrSyntax, flail/number.others).
-/
import Derived.Test.YtajpoodpbbbkfaaGreatDoorRows
import Derived.Test.YtajpoodpbbbkfaaGreatDoorSanAwake
import Derived.Test.YtajpoodpbbbkfaaGreatDoorCards
import Derived.Test.YtajpoodpbbbkfaaGreatDoorP6
import Derived.WalkKit
import Derived.ProofKit
import Derived.OpenShut
import Derived.ShutString
import Derived.ChangeOld
import Derived.Below
set_option maxHeartbeats 8000000
set_option maxRecDepth 100000
namespace Go.Proofs.YtajpoodpbbbkfaaGreatDoor.sanitizePlain
open Go.ChangeShapes Go.WideShapes Go.ChangeAt Go.RowKit
open Go.ChangeMaps (open_string shut_string)
set_option linter.unusedVariables false
theorem own:ownKnob Tryz.prog.godebug=none:=by kernel_rfl
theorem laidOut:laidOutB Tryz.prog=true:=by kernel_rfl
def IsRow (k:IntKind) (w:World) (a:Option Addr) (len cap:Nat) (zs:List Int):Prop:=
 (a=none∧len=0∧cap=0∧zs=[])∨
 ∃x,a=some x∧len≤cap∧cap≤maxLen∧zs.length=cap∧(∀i,i<zs.length→w.cell? (x.add i)=some (.int k (zs.getD i 0)))∧∀n∈zs,(Lit.int k n).wf=true
theorem byte_no22 (c d:UInt8) (h:c≠d):(((c.toNat:Nat):Int)==(d.toNat:Int))=false:=by
 rw [beq_eq_false_iff_ne]
 intro e
 exact h (UInt8.toNat_inj.1 (by omega))
theorem walk (a0:Int) (a1:Option Addr) (len1 cap1:Nat) (z1:List Int) (w:World) (hT:bn w) (w0:(Lit.int .u8 a0).wf=true) (w1:IsRow .u8 w a1 len1 cap1 z1):Calls Tryz.prog 4 #[.int .u8 a0,.slice a1 len1 cap1] w fun e w'=>e= .returned (.bool true)∧Below w.heap.size w w':=by
 have hb0:0≤a0∧a0≤255:=by simpa [Lit.wf,IntKind.min,IntKind.max,IntKind.signed,IntKind.bits] using w0
 obtain ⟨l,hl,hc⟩:=fw w1
 clear w0 w1
 have HW:=Lib.hid hT
 clear hT
 by_cases hlen:300<len1
 ·clear hl hc
  go_enter Tryz.func4,Tryz.ntmps4
  go_wp2_with (go_at_call 8;refine (bT w HW.out).mono ?_;rintro e w1 ⟨rfl,hb1⟩)
  go_ret
  exact ⟨rfl,hb1⟩
 have hlen':len1≤300:=by omega
 obtain ⟨k,hk⟩:∃k:Nat,a0%3=(k:Int):=⟨(a0%3).toNat,by omega⟩
 have hk2:k≤2:=by omega
 have C1:=Lib.hid hc
 have H1:=fun w h1 h2=>Lib.hid (fX (k:Int) (.slice a1 len1 cap1) l w (by omega) h1 (iU l (by omega)) (gN l (by omega)) h2)
 have hpl:=vW (k:Int) l
 have h10:=JP (k:Int) (by omega) l
 have hv:=(j6 (k:Int) (by omega) l).1
 have hln:=o6 (k:Int) l
 obtain ⟨X,hX,lX,sX⟩:=dP (bB (k:Int) l)
 rw [hX] at H1
 rw [←lX] at hpl h10 hv
 rw [←sX,hl] at hln
 have HPL:=Lib.hid hpl
 have H10:=Lib.hid h10
 have HV:=Lib.hid hv
 have hXs:(X.size:Int)≤18*(len1:Int):=by omega
 clear hX lX sX hpl h10 hv hln hlen hl hc
 go_enter Tryz.func4,Tryz.ntmps4
 go_wp2_with (fail)
 refine (bT w HW.out).mono ?_
 rintro e w1 ⟨rfl,c1⟩
 have B1:=Lib.hid c1
 clear c1
 go_wp2_with (fail)
 refine (H1 _ (C1.out.kept B1.out) (HW.out.below B1.out)).out.mono ?_
 rintro e w2 ⟨rfl,c2⟩
 have B2:=Lib.hid (B1.out.trans (c2.mono B1.out.size))
 clear c2
 go_wp2
 go_loopw [7] (fun v wr=>∃i:Nat,v= .int .i64 (i:Int)∧w2=wr∧i≤X.size) (fun v _=>X.size-(ae v).toNat)
 case atStart=>exact ⟨0,rfl,rfl,Nat.zero_le _⟩
 case round=>
  obtain ⟨i,rfl,rfl,hi⟩:=hrel
  by_cases hlt:i<X.size
  ·have hmem:X[i]∈X.data.toList:=by
    have:X.data.toList[i]'(by rw [←Lib.size_eq];exact hlt)=X[i]:=rfl
    rw [←this];exact List.getElem_mem _
   have hb:=HPL.out _ hmem
   have hn:∀d:UInt8,nK d=true→X[i]≠d:=fun d h1 e=>by rw [e,h1] at hb;cases hb
   have e60:(((X[i].toNat:Nat):Int)==60)=false:=byte_no22 _ 60 (hn 60 (by decide))
   have e62:(((X[i].toNat:Nat):Int)==62)=false:=byte_no22 _ 62 (hn 62 (by decide))
   have e34:(((X[i].toNat:Nat):Int)==34)=false:=byte_no22 _ 34 (hn 34 (by decide))
   have e39:(((X[i].toNat:Nat):Int)==39)=false:=byte_no22 _ 39 (hn 39 (by decide))
   have e0:(((X[i].toNat:Nat):Int)==0)=false:=byte_no22 _ 0 (hn 0 (by decide))
   have e13:(((X[i].toNat:Nat):Int)==13)=false:=byte_no22 _ 13 (hn 13 (by decide))
   have h10i:i=0→X[i]≠10:=fun h0 e=>by
    subst h0
    refine H10.out ?_
    rw [List.head?_eq_getElem?,List.getElem?_eq_getElem (by rw [←Lib.size_eq];exact hlt)]
    exact congrArg some e
   clear hmem hb hn
   by_cases h0:i=0
   ·subst h0
    have e10:(((X[0].toNat:Nat):Int)==10)=false:=byte_no22 _ 10 (h10i rfl)
    clear h10i
    go_wp2
    go_roundw
    case rel=>exact ⟨1,rfl,trivial,by omega⟩
    case measure=>simp [ae];omega
   ·have ei:((i:Int)==0)=false:=beq_eq_false_iff_ne.2 (by omega)
    clear h10i
    go_wp2
    go_roundw
    case rel=>exact ⟨i+1,by simp,trivial,by omega⟩
    case measure=>simp [ae];omega
  ·go_wp2_with (fail)
   refine (Ge X _).mono ?_
   rintro e w3 ⟨rfl,c3⟩
   rw [HV.out]
   have B3:=Lib.hid (B2.out.trans (c3.mono B2.out.size))
   clear c3
   go_wp2
   go_ret
   exact ⟨au (by simp),B3.out⟩
theorem laid_met (os:Os):laidMet Tryz.prog Rows.sanitizePlainRow.laid ((ci os).forCall (fun _ _=>0) ⟨#[],#[.int .u8 0,.slice none 0 0],[]⟩).memory:=
 laidMet_of_run' 8 (by kernel_rfl) (by kernel_rfl)
theorem reads (os:Os) {H:Type} (enc:TypeId × Value→H):∃places,DataW.whole enc Tryz.prog ((ci os).forCall (fun _ _=>0) ⟨#[],#[.int .u8 0,.slice none 0 0],[]⟩).memory Tryz.f4.params.toList Rows.sanitizePlainSpec.vars false (#[.int .u8 0,.slice none 0 0]:Array Value).toList 8=some ([.lit (.int .u8 0),.nil],[],places):=
 ⟨[],by kernel_rfl⟩
theorem lifted (os:Os) (started:os.Started) (H:Type) (enc:TypeId × Value→H) (F:Stop.Interp):ReturnsInHanded {} Tryz.checked os 4 .any ((OpenSpec.ofChange Rows.sanitizePlainSpec).preRow enc Tryz.prog Tryz.f4 Rows.sanitizePlainRow.domain false Rows.sanitizePlainRow.laid) (((OpenSpec.ofChange Rows.sanitizePlainSpec).at F).post enc Tryz.prog Tryz.f4 false true false false):=by
 obtain ⟨places,hx⟩:=reads os enc
 refine returnsInHanded_of_row (C:=Tryz.checked) (s:=OpenSpec.ofChange Rows.sanitizePlainSpec) own started (by kernel_rfl) Tryz.func4 (witness_row_at (enc:=enc) (C:=Tryz.checked) false (ci os) #[.int .u8 0,.slice none 0 0] rfl (by kernel_rfl) (by kernel_rfl) (by kernel_rfl) (OpenSpec.preRow_of_cond 8 hx (by kernel_rfl) (fun k hk=>by cases hk) (by kernel_rfl) (laid_met os))) ?_
 intro W base args ds gs before hval0 hW _ _ _ hL hsh _
 have hval:∀(j:Nat) t v,Tryz.f4.params[j]? =some t→args[j]? =some v→Value.okWide Tryz.prog W .any base t v:=hval0
 have hW':=hW
 obtain ⟨p,q,hA0,hV,rfl,hfz,hnd⟩:=hW
 have hA:DataW.TrodAll enc Tryz.prog W 0 (fun _=>true) true Tryz.f4.params.toList args.toList ds p:=hA0
 rw [Tryz.params4] at hA hval
 obtain ⟨v0,vs0,d0,ds0,p0,q0,hargs,rfl,rfl,h0,r0⟩:=trodAll_cons hA
 obtain ⟨v1,vs1,d1,ds1,p1,q1,rfl,rfl,rfl,h1,r1⟩:=trodAll_cons r0
 obtain ⟨rfl,rfl,rfl⟩:=trodAll_nil r1
 obtain rfl:args=#[v0,v1]:=by cases args;simp_all
 obtain ⟨rfl,rfl⟩:=trodVars_none hV
 obtain ⟨a0,rfl,rfl,rfl,w0⟩:=open_int Tryz.underlying5 (hval 0 5 v0 rfl rfl) h0
 obtain ⟨a1,len1,cap1,rfl⟩:=okWide_slice Tryz.underlying22 (hval 1 22 v1 rfl rfl)
 have k1:=h1
 have lt1:∀x∈p1,x.block<W.heap.size:=by obtain ⟨m,hm⟩:=k1;exact DataW.trod_lt m _ _ _ hm
 obtain ⟨z1,w1⟩:∃zs,IsRow .u8 W a1 len1 cap1 zs:=by
  obtain ⟨fuel,hf⟩:=h1
  rcases open_ints Tryz.underlying22 Tryz.underlying5 (by kernel_rfl) hf with ⟨hcs,_⟩|⟨x,l,c,zs,hcs,_,hl,hm,hz,_,hcell,hwz⟩
  ·simp [Value.cells] at hcs
   obtain ⟨rfl,rfl,rfl⟩:=hcs
   exact ⟨[],.inl ⟨rfl,rfl,rfl,rfl⟩⟩
  ·simp [Value.cells] at hcs
   obtain ⟨rfl,rfl,rfl⟩:=hcs
   exact ⟨zs,.inr ⟨_,rfl,hl,hm,by simpa using hz,hcell,hwz⟩⟩
 clear hA0 hval0
 refine (walk a0 a1 len1 cap1 z1 W (ly hL hsh) w0 w1).mono fun e W' ⟨he,bel⟩=>?_
 subst he
 exact ⟨_,rfl,_,_,_,[],_,[],hW',trodAll_mk1 (shut_bool Tryz.underlying4 _),(trodAll_cons_mk (shut_int Tryz.underlying5 w0) (trodAll_cons_mk (Below.trod laidOut (by kernel_rfl) (of_decide_eq_true (by kernel_rfl)) k1 bel lt1) trodAll_mk0)),rfl,bel.frame _,fun h=>by cases h⟩
theorem said:Rows.SanitizePlainSaid:=
 OpenClaim.holds_of_cond 4 Tryz.f4 rfl rfl rfl rfl rfl rfl rfl ⟨rfl,rfl,rfl,rfl,rfl⟩ rfl rfl rfl rfl rfl (by kernel_rfl) Tryz.func4 (by kernel_rfl) (of_decide_eq_true (by kernel_rfl)) (by unfold Func.isWrapper;first|(rw [if_pos (by decide+kernel)];kernel_rfl)|(rw [if_neg (by decide+kernel)];exact ⟨rfl,rfl⟩)) (fun os started H enc _ F=>by rw [OpenClaim.pre_eq_preRow];exact lifted os started H enc F)
theorem plain (f:FuncId) (fn:Func) (hf:Tryz.pinned.checked.prog.funcNamed "flail/flaillaw22.SanitizePlain" =some f) (hfn:Tryz.pinned.checked.prog.funcs[f]? =some fn):true=Tryz.pinned.checked.prog.looks []∧∀(j:Nat) t,fn.params[j]? =some t→Tryz.pinned.checked.prog.wantsStandIn t=false:=by
 obtain rfl:f=4:=Option.some.inj ((show Tryz.prog.funcNamed "flail/flaillaw22.SanitizePlain" =some 4 by kernel_rfl).symm.trans hf) |>.symm
 obtain rfl:fn=Tryz.f4:=(Option.some.inj (Tryz.func4.symm.trans hfn)).symm
 refine ⟨by kernel_rfl,fun j t ht=>?_⟩
 rw [Tryz.params4] at ht
 have hm:t∈[5,22]:=by first|simpa using Array.mem_of_getElem? ht|(have h:=Array.mem_of_getElem? ht;simp at h⊢;grind)
 have hall:([5,22].all fun u=> !Tryz.prog.wantsStandIn u)=true:=by kernel_rfl
 exact (show Tryz.prog.wantsStandIn t=false by simpa using List.all_eq_true.1 hall t hm)
theorem proved:Rows.SanitizePlainCardSaid:=
 Claim7.holds_tied_plain_at .later [] _ _ _ _ said (fun _ h=>by cases h) (by kernel_rfl) (fun _ h=>by cases h) sanitizePlain_row_tie rfl ⟨rfl,rfl⟩ (by kernel_rfl) rfl plain (by kernel_rfl)
end Go.Proofs.YtajpoodpbbbkfaaGreatDoor.sanitizePlain
