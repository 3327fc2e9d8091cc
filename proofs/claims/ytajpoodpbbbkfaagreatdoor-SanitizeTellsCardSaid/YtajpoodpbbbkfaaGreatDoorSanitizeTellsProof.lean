/-
  The law SanitizeTells of flail/flaillaw22 answers true for every input, and changes nothing that was there. Condition, which the card ties to the program's text: when the call begins, the package variables that the row lists hold what that text lays in them (math/bits.deBruijn32tab, math/bits.deBruijn64tab, internal/strconv.uint64pow10, strconv.ErrRange, strconv.ErrSyntax, flail/number.others).
-/
import Derived.Test.YtajpoodpbbbkfaaGreatDoorRows
import Derived.Test.YtajpoodpbbbkfaaGreatDoorSanAwake
import Derived.Test.YtajpoodpbbbkfaaGreatDoorCards
import Derived.Test.YtajpoodpbbbkfaaGreatDoorP6
import Derived.WalkKit
import Derived.ProofKit
import Derived.OpenShut
import Derived.ShutString
import Derived.ChangeOld
import Derived.Below
set_option maxHeartbeats 8000000
set_option maxRecDepth 100000
namespace Go.Proofs.YtajpoodpbbbkfaaGreatDoor.sanitizeTells
open Go.ChangeShapes Go.WideShapes Go.ChangeAt Go.RowKit
open Go.ChangeMaps (open_string shut_string)
set_option linter.unusedVariables false
theorem own:ownKnob Tryz.prog.godebug=none:=by kernel_rfl
theorem laidOut:laidOutB Tryz.prog=true:=by kernel_rfl
def IsRow (k:IntKind) (w:World) (a:Option Addr) (len cap:Nat) (zs:List Int):Prop:=
 (a=none∧len=0∧cap=0∧zs=[])∨
 ∃x,a=some x∧len≤cap∧cap≤maxLen∧zs.length=cap∧(∀i,i<zs.length→w.cell? (x.add i)=some (.int k (zs.getD i 0)))∧∀n∈zs,(Lit.int k n).wf=true
theorem walk (a0:Int) (a1:Option Addr) (len1 cap1:Nat) (z1:List Int) (w:World) (hT:bn w) (w0:(Lit.int .i64 a0).wf=true) (w1:IsRow .u8 w a1 len1 cap1 z1):Calls Tryz.prog 3 #[.int .i64 a0,.slice a1 len1 cap1] w fun e w'=>e= .returned (.bool true)∧Below w.heap.size w w':=by
 have hb0: -9223372036854775808≤a0∧a0≤9223372036854775807:=by simpa [Lit.wf,IntKind.min,IntKind.max,IntKind.signed,IntKind.bits] using w0
 obtain ⟨l,hl,hc⟩:=fw w1
 clear w0 w1
 have HW:=Lib.hid hT
 clear hT
 by_cases hlen:300<len1
 ·clear hl hc
  go_enter Tryz.func3,Tryz.ntmps3
  go_wp2_with (go_at_call 8;refine (bT w HW.out).mono ?_;rintro e w1 ⟨rfl,hb1⟩)
  go_ret
  exact ⟨rfl,hb1⟩
 have hlen1:len1≤300:=by omega
 have C1:=Lib.hid hc
 have hln:=o6 a0 l
 have ht:=gN l (by omega)
 have H1:=fun w h1 h2=>Lib.hid (tZ a0 (.slice a1 len1 cap1) l w hb0 h1 (iU l (by omega)) ht h2)
 have H2:=fun w h1 h2=>Lib.hid (fX a0 (.slice a1 len1 cap1) l w hb0 h1 (iU l (by omega)) ht h2)
 have H3:=fun w h1 h2=>Lib.hid (pq a0 (.slice a1 len1 cap1) l w hb0 h1 (iU l (by omega)) ht h2)
 have H4:=fun v w h1 h2=>Lib.hid (tZ a0 v (bB a0 l) w hb0 h1 (CI a0 l ht) (Nat.le_trans (j7 a0 l) ht) h2)
 obtain ⟨X,hX,lX,sX⟩:=dP (bB a0 l)
 obtain ⟨Y,hY,-,-⟩:=dP (bB a0 (bB a0 l))
 rw [hX] at H1 H2
 rw [hY] at H3 H4
 rw [←lX] at H4
 rw [←sX,hl] at hln
 have hXs:X.size≤5400:=by omega
 clear hX lX sX hY hln hlen hl hc ht
 have kc:=fun (wx:World) (s:ByteArray)=>run_bytes_of_string (P:=Tryz.prog) wx 9 22 5 s Tryz.underlying9 Tryz.underlying22 Tryz.underlying5
 go_enter Tryz.func3,Tryz.ntmps3
 go_wp2_with (fail)
 refine (bT w HW.out).mono ?_
 rintro e w1 ⟨rfl,c1⟩
 have B1:=Lib.hid c1
 clear c1
 go_wp2_with (fail)
 refine (H1 _ (C1.out.kept B1.out) (HW.out.below B1.out)).out.mono ?_
 rintro e w2 ⟨rfl,c2⟩
 have B2:=Lib.hid (B1.out.trans (c2.mono B1.out.size))
 clear c2
 go_wp2_with (fail)
 refine (H2 _ (C1.out.kept B2.out) (HW.out.below B2.out)).out.mono ?_
 rintro e w3 ⟨rfl,c3⟩
 have B3:=Lib.hid (B2.out.trans (c3.mono B2.out.size))
 clear c3
 go_wp2_with (fail)
 refine (H3 _ (C1.out.kept B3.out) (HW.out.below B3.out)).out.mono ?_
 rintro e w4 ⟨rfl,c4⟩
 have B4:=Lib.hid (B3.out.trans (c4.mono B3.out.size))
 clear c4
 go_wp2_with (fail)
 refine (H4 _ _ (fU w4 X _ _ rfl (by unfold maxLen;omega)) (HW.out.below (dO B4.out B4.out.size _))).out.mono ?_
 rintro e w5 ⟨rfl,c5⟩
 have B5:=Lib.hid (show Below w.heap.size w w5 from (dO B4.out B4.out.size _).trans (c5.mono (by have q:=B4.out.size;simp;omega)))
 clear c5
 go_wp2
 go_ret
 exact ⟨au (by simp),B5.out⟩
theorem laid_met (os:Os):laidMet Tryz.prog Rows.sanitizeTellsRow.laid ((ci os).forCall (fun _ _=>0) ⟨#[],#[.int .i64 0,.slice none 0 0],[]⟩).memory:=
 laidMet_of_run' 8 (by kernel_rfl) (by kernel_rfl)
theorem reads (os:Os) {H:Type} (enc:TypeId × Value→H):∃places,DataW.whole enc Tryz.prog ((ci os).forCall (fun _ _=>0) ⟨#[],#[.int .i64 0,.slice none 0 0],[]⟩).memory Tryz.f3.params.toList Rows.sanitizeTellsSpec.vars false (#[.int .i64 0,.slice none 0 0]:Array Value).toList 8=some ([.lit (.int .i64 0),.nil],[],places):=
 ⟨[],by kernel_rfl⟩
theorem lifted (os:Os) (started:os.Started) (H:Type) (enc:TypeId × Value→H) (F:Stop.Interp):ReturnsInHanded {} Tryz.checked os 3 .any ((OpenSpec.ofChange Rows.sanitizeTellsSpec).preRow enc Tryz.prog Tryz.f3 Rows.sanitizeTellsRow.domain false Rows.sanitizeTellsRow.laid) (((OpenSpec.ofChange Rows.sanitizeTellsSpec).at F).post enc Tryz.prog Tryz.f3 false true false false):=by
 obtain ⟨places,hx⟩:=reads os enc
 refine returnsInHanded_of_row (C:=Tryz.checked) (s:=OpenSpec.ofChange Rows.sanitizeTellsSpec) own started (by kernel_rfl) Tryz.func3 (witness_row_at (enc:=enc) (C:=Tryz.checked) false (ci os) #[.int .i64 0,.slice none 0 0] rfl (by kernel_rfl) (by kernel_rfl) (by kernel_rfl) (OpenSpec.preRow_of_cond 8 hx (by kernel_rfl) (fun k hk=>by cases hk) (by kernel_rfl) (laid_met os))) ?_
 intro W base args ds gs before hval0 hW _ _ _ hL hsh _
 have hval:∀(j:Nat) t v,Tryz.f3.params[j]? =some t→args[j]? =some v→Value.okWide Tryz.prog W .any base t v:=hval0
 have hW':=hW
 obtain ⟨p,q,hA0,hV,rfl,hfz,hnd⟩:=hW
 have hA:DataW.TrodAll enc Tryz.prog W 0 (fun _=>true) true Tryz.f3.params.toList args.toList ds p:=hA0
 rw [Tryz.params3] at hA hval
 obtain ⟨v0,vs0,d0,ds0,p0,q0,hargs,rfl,rfl,h0,r0⟩:=trodAll_cons hA
 obtain ⟨v1,vs1,d1,ds1,p1,q1,rfl,rfl,rfl,h1,r1⟩:=trodAll_cons r0
 obtain ⟨rfl,rfl,rfl⟩:=trodAll_nil r1
 obtain rfl:args=#[v0,v1]:=by cases args;simp_all
 obtain ⟨rfl,rfl⟩:=trodVars_none hV
 obtain ⟨a0,rfl,rfl,rfl,w0⟩:=open_int Tryz.underlying3 (hval 0 3 v0 rfl rfl) h0
 obtain ⟨a1,len1,cap1,rfl⟩:=okWide_slice Tryz.underlying22 (hval 1 22 v1 rfl rfl)
 have k1:=h1
 have lt1:∀x∈p1,x.block<W.heap.size:=by obtain ⟨m,hm⟩:=k1;exact DataW.trod_lt m _ _ _ hm
 obtain ⟨z1,w1⟩:∃zs,IsRow .u8 W a1 len1 cap1 zs:=by
  obtain ⟨fuel,hf⟩:=h1
  rcases open_ints Tryz.underlying22 Tryz.underlying5 (by kernel_rfl) hf with ⟨hcs,_⟩|⟨x,l,c,zs,hcs,_,hl,hm,hz,_,hcell,hwz⟩
  ·simp [Value.cells] at hcs
   obtain ⟨rfl,rfl,rfl⟩:=hcs
   exact ⟨[],.inl ⟨rfl,rfl,rfl,rfl⟩⟩
  ·simp [Value.cells] at hcs
   obtain ⟨rfl,rfl,rfl⟩:=hcs
   exact ⟨zs,.inr ⟨_,rfl,hl,hm,by simpa using hz,hcell,hwz⟩⟩
 clear hA0 hval0
 refine (walk a0 a1 len1 cap1 z1 W (ly hL hsh) w0 w1).mono fun e W' ⟨he,bel⟩=>?_
 subst he
 exact ⟨_,rfl,_,_,_,[],_,[],hW',trodAll_mk1 (shut_bool Tryz.underlying4 _),(trodAll_cons_mk (shut_int Tryz.underlying3 w0) (trodAll_cons_mk (Below.trod laidOut (by kernel_rfl) (of_decide_eq_true (by kernel_rfl)) k1 bel lt1) trodAll_mk0)),rfl,bel.frame _,fun h=>by cases h⟩
theorem said:Rows.SanitizeTellsSaid:=
 OpenClaim.holds_of_cond 3 Tryz.f3 rfl rfl rfl rfl rfl rfl rfl ⟨rfl,rfl,rfl,rfl,rfl⟩ rfl rfl rfl rfl rfl (by kernel_rfl) Tryz.func3 (by kernel_rfl) (of_decide_eq_true (by kernel_rfl)) (by unfold Func.isWrapper;first|(rw [if_pos (by decide+kernel)];kernel_rfl)|(rw [if_neg (by decide+kernel)];exact ⟨rfl,rfl⟩)) (fun os started H enc _ F=>by rw [OpenClaim.pre_eq_preRow];exact lifted os started H enc F)
theorem plain (f:FuncId) (fn:Func) (hf:Tryz.pinned.checked.prog.funcNamed "flail/flaillaw22.SanitizeTells" =some f) (hfn:Tryz.pinned.checked.prog.funcs[f]? =some fn):true=Tryz.pinned.checked.prog.looks []∧∀(j:Nat) t,fn.params[j]? =some t→Tryz.pinned.checked.prog.wantsStandIn t=false:=by
 obtain rfl:f=3:=Option.some.inj ((show Tryz.prog.funcNamed "flail/flaillaw22.SanitizeTells" =some 3 by kernel_rfl).symm.trans hf) |>.symm
 obtain rfl:fn=Tryz.f3:=(Option.some.inj (Tryz.func3.symm.trans hfn)).symm
 refine ⟨by kernel_rfl,fun j t ht=>?_⟩
 rw [Tryz.params3] at ht
 have hm:t∈[3,22]:=by first|simpa using Array.mem_of_getElem? ht|(have h:=Array.mem_of_getElem? ht;simp at h⊢;grind)
 have hall:([3,22].all fun u=> !Tryz.prog.wantsStandIn u)=true:=by kernel_rfl
 exact (show Tryz.prog.wantsStandIn t=false by simpa using List.all_eq_true.1 hall t hm)
theorem proved:Rows.SanitizeTellsCardSaid:=
 Claim7.holds_tied_plain_at .later [] _ _ _ _ said (fun _ h=>by cases h) (by kernel_rfl) (fun _ h=>by cases h) sanitizeTells_row_tie rfl ⟨rfl,rfl⟩ (by kernel_rfl) rfl plain (by kernel_rfl)
end Go.Proofs.YtajpoodpbbbkfaaGreatDoor.sanitizeTells
