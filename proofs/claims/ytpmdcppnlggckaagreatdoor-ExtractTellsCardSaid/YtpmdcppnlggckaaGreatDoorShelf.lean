/-
  The library's contracts that serve at this program, laid: each by its own theorem, the numbers of this program put in.
-/
import Derived.Shelf.Strings.Builder1
import Derived.Shelf.Strings.Builder2
import Derived.Shelf.Small.Utf8
import Derived.Shelf.Small.Strs
import Derived.Shelf.Strings.BuilderF
import Derived.Shelf.Strings.BuilderK
import Derived.Shelf.Strings.BuilderRune
import Derived.Shelf.Utf8.AppendRune
import Derived.Shelf.Strings.Builder2Cap
import Derived.Shelf.Strconv.Itoa0
import Derived.Shelf.Strconv.Itoa1
import Derived.Shelf.LaysM
import Derived.Shelf.Strconv.Itoa2
import Derived.Shelf.Strconv.Itoa3
import Derived.Shelf.Strconv.ParseIntEmpty
import Derived.Shelf.Strconv.Clone
import Derived.Shelf.Strconv.SyntaxError
import Derived.Shelf.LaysC
import Derived.Shelf.Strconv.ToError
import Derived.Shelf.Strconv.Lower
import Derived.Shelf.Strconv.RangeError
import Derived.Shelf.Strconv.ToErrorRange
import Derived.Shelf.Strings.Search1
import Derived.Shelf.Strings.Search2
import Derived.Shelf.Strings.Search3
import Derived.Shelf.Strings.Cut
import Derived.Shelf.Strings.Shaped
import Derived.Shelf.Strings.LastIndex
import Derived.Shelf.Strings.Prefix
import Derived.Shelf.Strings.BuilderCap
import Derived.Test.YtpmdcppnlggckaaGreatDoorProg
namespace Go.Proofs
open Go.Shelf Tryz
def Tryz.lays169_ren:Go.Shelf.Ren:=⟨fun|169=>46|n=>n,fun|70=>70|9=>9|0=>0|72=>72|37=>22|127=>107|3=>3|5=>5|n=>n,fun|n=>n⟩
theorem Tryz.lays169:Go.Proofs.Lays.n169 prog lays169_ren:=by repeat' first|kernel_rfl|(intro;kernel_rfl)|constructor
theorem Tryz.Builder_Extra_169:Builder.Extra prog lays169_ren:=by repeat' first|kernel_rfl|(intro;kernel_rfl)|decide|constructor
def Tryz.lays165_ren:Go.Shelf.Ren:=⟨fun|165=>42|240=>76|241=>77|276=>119|277=>120|n=>n,fun|70=>70|3=>3|0=>0|4=>4|9=>9|20=>20|72=>72|37=>22|164=>121|5=>5|n=>n,fun|n=>n⟩
theorem Tryz.lays165:Go.Proofs.Lays.n165 prog lays165_ren:=by repeat' first|kernel_rfl|(intro;kernel_rfl)|constructor
theorem Tryz.Builder_Extra_165:Builder.Extra prog lays165_ren:=by repeat' first|kernel_rfl|(intro;kernel_rfl)|decide|constructor
open Go.RowKit in
theorem Tryz.Builder_Grow_fresh (B b n:Nat) (w:World) (hB:B≤b) (hbk:w.heap[b]? =some (.cells #[.pointer none,.slice none 0 0] 72 (0,0))) (hBw:B≤w.heap.size) (hn:n≤281474976710656):Calls prog 42 #[.pointer (some ⟨b,0,none⟩),.int .i64 n] w fun e w'=>e= .returned (.tuple #[])∧(Lib.BuilderAt 72 5 B b (.pointer (some ⟨b,0,none⟩)) [] w'∧Below B w w'):=Any.Builder_Grow_fresh lays165 Builder_Extra_165 B b n w hB hbk hBw hn
def Tryz.lays118_ren:Go.Shelf.Ren:=⟨fun|118=>79|n=>n,fun|21=>21|3=>3|4=>4|n=>n,fun|n=>n⟩
theorem Tryz.lays118:Go.Proofs.Lays.n118 prog lays118_ren:=by repeat' first|kernel_rfl|(intro;kernel_rfl)|constructor
theorem Tryz.utf8_RuneLen (r:Int) (w:World):Calls prog 79 #[.int .i32 r] w fun e w'=>e= .returned (.int .i64 (Lib.runeLen r))∧w'=w:=Any.utf8_RuneLen lays118 r w
def Tryz.lays137_ren:Go.Shelf.Ren:=⟨fun|137=>160|217=>187|266=>206|n=>n,fun|9=>9|5=>5|3=>3|n=>n,fun|n=>n⟩
theorem Tryz.lays137:Go.Proofs.Lays.n137 prog lays137_ren:=by repeat' first|kernel_rfl|(intro;kernel_rfl)|constructor
open Go.RowKit in
theorem Tryz.strings_IndexByte (s:ByteArray) (c:Int) (w:World):Calls prog 160 #[.string s,.int .u8 c] w fun e w'=>e= .returned (.int .i64 (Lib.indexByte s.data.toList c.toNat.toUInt8))∧w'=w:=Any.strings_IndexByte lays137 s c w
open Go.RowKit in
theorem Tryz.Builder_String_any_k (B b:Nat) (l:List UInt8) (w:World) (h:Lib.IsBuilderF 72 5 B b (Lib.byteCells l) w) (hBw:B≤w.heap.size):Calls prog 46 #[.pointer (some ⟨b,0,none⟩)] w fun e w'=>e= .returned (.string ⟨l.toArray⟩)∧(Lib.IsBuilderF 72 5 B b (Lib.byteCells l) w'∧Below B w w'∧Lib.OthersKept 5 (some b) w w'):=Any.Builder_String_any_k lays169 Builder_Extra_169 B b l w h hBw
def Tryz.lays242_ren:Go.Shelf.Ren:=⟨fun|242=>80|278=>121|n=>n,fun|37=>22|21=>21|51=>124|4=>4|5=>5|46=>104|n=>n,fun|n=>n⟩
theorem Tryz.lays242:Go.Proofs.Lays.n242 prog lays242_ren:=by repeat' first|kernel_rfl|(intro;kernel_rfl)|constructor
open Go.RowKit in
theorem Tryz.utf8_AppendRune_row (B:Nat) (v:Value) (n:Nat) (xs:List Value) (r:Int) (hr0: -2147483648≤r) (hr1:r≤2147483647) (w:World) (hown:w.ownsRowF B 5 1 v n xs) (hlen:n+4≤140737488355328) (hBw:B≤w.heap.size):Calls prog 80 #[v,.int .i32 r] w fun e w'=>∃v',e= .returned v'∧w'.ownsRowF B 5 1 v' (n+(Lib.runeCells r).length) (xs++Lib.runeCells r)∧∃o,(w.alloc o).grownBy w' v.ownBlock:=Any.utf8_AppendRune_row lays242 (by kernel_rfl) B v n xs r hr0 hr1 w hown hlen hBw
def Tryz.lays247_ren:Go.Shelf.Ren:=⟨fun|247=>230|287=>233|321=>238|322=>239|n=>n,fun|9=>9|3=>3|2=>2|75=>75|4=>4|167=>191|5=>5|53=>192|175=>193|46=>104|37=>22|0=>0|21=>21|80=>79|n=>n,fun|n=>n⟩
theorem Tryz.lays247:Go.Proofs.Lays.n247 prog lays247_ren:=by repeat' first|kernel_rfl|(intro;kernel_rfl)|constructor
open Go.RowKit in
theorem Tryz.internal_strconv_ParseInt_empty (base bits:Int) (w:World):Calls prog 230 #[.string ⟨#[]⟩,.int .i64 base,.int .i64 bits] w fun e w'=>e= .returned (.tuple #[.int .i64 0,(.iface 191 (.int .i64 2))])∧w'=w:=Any.internal_strconv_ParseInt_empty lays247 base bits w
def Tryz.laysM316_ren:Go.Shelf.Ren:=⟨fun|316=>218|n=>n,fun|9=>9|3=>3|4=>4|37=>22|0=>0|127=>107|5=>5|n=>n,fun|n=>n⟩
theorem Tryz.laysM316:Go.Proofs.LaysM.n316 prog laysM316_ren:=by repeat' first|kernel_rfl|(intro;kernel_rfl)|constructor
open Go.RowKit in
theorem Tryz.stringslite_Clone (s:ByteArray) (w:World) (hlim:s.size≤281474976710656):Calls prog 218 #[.string s] w fun e w'=>e= .returned (.string s)∧Below w.heap.size w w':=Any.stringslite_Clone laysM316 s w hlim
def Tryz.laysC245_ren:Go.Shelf.Ren:=⟨fun|245=>231|279=>234|280=>235|281=>236|282=>237|316=>218|171=>241|205=>240|243=>242|246=>243|283=>244|284=>245|285=>246|286=>247|129=>249|317=>248|318=>250|319=>251|320=>252|337=>253|338=>254|n=>n,fun|9=>9|3=>3|75=>75|167=>191|4=>4|168=>195|210=>199|37=>22|0=>0|127=>107|145=>203|143=>201|2=>2|171=>205|53=>192|5=>5|173=>208|212=>211|51=>124|20=>20|213=>212|46=>104|232=>215|233=>216|80=>79|n=>n,fun|15=>2|16=>3|17=>4|18=>5|19=>6|n=>n⟩
theorem Tryz.laysC245:Go.Proofs.LaysC.n245 prog laysC245_ren:=by repeat' first|kernel_rfl|(intro;kernel_rfl)|constructor
open Go.RowKit in
theorem Tryz.strconv_toError_syntax (fn s:ByteArray) (base bits:Int) (ev:Value) (w:World) (hlim:s.size≤281474976710656) (hv:w.cell? ⟨2,0,none⟩=some ev) (hev:ev= .nilIface∨∃te pe,ev= .iface te pe):Calls prog 231 #[.string fn,.string s,.int .i64 base,.int .i64 bits,.iface 191 (.int .i64 2)] w fun e w'=>∃N,e= .returned (.iface 195 (.pointer (some ⟨N,0,none⟩)))∧w.heap.size≤N∧w'.heap[N]? =some (.cells #[.string fn,.string s,ev] 199 (0,0))∧Below w.heap.size w w':=Any.strconv_toError_syntax laysC245 fn s base bits ev w hlim hv hev
def Tryz.lays321_ren:Go.Shelf.Ren:=⟨fun|321=>238|n=>n,fun|5=>5|n=>n,fun|n=>n⟩
theorem Tryz.lays321:Go.Proofs.Lays.n321 prog lays321_ren:=by repeat' first|kernel_rfl|(intro;kernel_rfl)|constructor
open Go.RowKit in
theorem Tryz.internal_strconv_lower (c:Int) (w:World):Calls prog 238 #[.int .u8 c] w fun e w'=>e= .returned (.int .u8 (bits .or .u8 c 32))∧w'=w:=Any.internal_strconv_lower lays321 c w
def Tryz.lays219_ren:Go.Shelf.Ren:=⟨fun|219=>189|217=>187|225=>208|224=>209|267=>210|266=>206|314=>224|n=>n,fun|9=>9|3=>3|4=>4|5=>5|46=>104|146=>183|51=>124|n=>n,fun|1=>0|n=>n⟩
theorem Tryz.lays219:Go.Proofs.Lays.n219 prog lays219_ren:=by repeat' first|kernel_rfl|(intro;kernel_rfl)|constructor
open Go.RowKit Go.Lib in
theorem Tryz.stringslite_Index_one (s:ByteArray) (c:UInt8) (w:World):Calls prog 189 #[.string s,.string ⟨#[c]⟩] w fun e w'=>e= .returned (.int .i64 (Lib.indexByte s.data.toList c))∧w'=w:=Any.stringslite_Index_one lays219 s c w
def Tryz.lays143_ren:Go.Shelf.Ren:=⟨fun|143=>168|219=>189|217=>187|225=>208|224=>209|267=>210|266=>206|314=>224|n=>n,fun|9=>9|3=>3|4=>4|5=>5|46=>104|146=>183|51=>124|n=>n,fun|1=>0|n=>n⟩
theorem Tryz.lays143:Go.Proofs.Lays.n143 prog lays143_ren:=by repeat' first|kernel_rfl|(intro;kernel_rfl)|constructor
open Go.RowKit Go.Lib in
theorem Tryz.strings_Index (s sub:ByteArray) (m:Int) (w:World) (hs:s.size<4294967281) (hm:w.cell? ⟨0,0,none⟩=some (.int .i64 m)):Calls prog 168 #[.string s,.string sub] w fun e w'=>e= .returned (.int .i64 (Lib.index s.data.toList sub.data.toList))∧w'=w:=Any.strings_Index lays143 s sub m w hs hm
def Tryz.lays149_ren:Go.Shelf.Ren:=⟨fun|149=>229|222=>232|n=>n,fun|9=>9|5=>5|3=>3|4=>4|n=>n,fun|n=>n⟩
theorem Tryz.lays149:Go.Proofs.Lays.n149 prog lays149_ren:=by repeat' first|kernel_rfl|(intro;kernel_rfl)|constructor
open Go.RowKit Go.Lib in
theorem Tryz.strings_LastIndexByte (s:ByteArray) (c:Int) (hs:s.size<4611686018427387904) (w:World):Calls prog 229 #[.string s,.int .u8 c] w fun e w'=>e= .returned (.int .i64 (Lib.lastIndexByte s c))∧w'=w:=Any.strings_LastIndexByte lays149 s c hs w
def Tryz.lays99_ren:Go.Shelf.Ren:=⟨fun|99=>39|206=>74|n=>n,fun|9=>9|4=>4|3=>3|n=>n,fun|n=>n⟩
theorem Tryz.lays99:Go.Proofs.Lays.n99 prog lays99_ren:=by repeat' first|kernel_rfl|(intro;kernel_rfl)|constructor
open Go.RowKit Go.Lib in
theorem Tryz.strings_HasPrefix (s p:ByteArray) (w:World):Calls prog 39 #[.string s,.string p] w fun e w'=>e= .returned (.bool (Lib.hasPrefix s.data.toList p.data.toList))∧w'=w:=Any.strings_HasPrefix lays99 s p w
def Tryz.lays207_ren:Go.Shelf.Ren:=⟨fun|207=>223|n=>n,fun|9=>9|4=>4|3=>3|n=>n,fun|n=>n⟩
theorem Tryz.lays207:Go.Proofs.Lays.n207 prog lays207_ren:=by repeat' first|kernel_rfl|(intro;kernel_rfl)|constructor
open Go.RowKit Go.Lib in
theorem Tryz.stringslite_HasSuffix (s p:ByteArray) (w:World) (hs:s.size≤9223372036854775807):Calls prog 223 #[.string s,.string p] w fun e w'=>e= .returned (.bool (Lib.hasSuffix s.data.toList p.data.toList))∧w'=w:=Any.stringslite_HasSuffix lays207 s p w hs
def Tryz.lays100_ren:Go.Shelf.Ren:=⟨fun|100=>216|207=>223|n=>n,fun|9=>9|4=>4|3=>3|n=>n,fun|n=>n⟩
theorem Tryz.lays100:Go.Proofs.Lays.n100 prog lays100_ren:=by repeat' first|kernel_rfl|(intro;kernel_rfl)|constructor
open Go.RowKit Go.Lib in
theorem Tryz.strings_HasSuffix (s p:ByteArray) (w:World) (hs:s.size≤9223372036854775807):Calls prog 216 #[.string s,.string p] w fun e w'=>e= .returned (.bool (Lib.hasSuffix s.data.toList p.data.toList))∧w'=w:=Any.strings_HasSuffix lays100 s p w hs
def Tryz.lays101_ren:Go.Shelf.Ren:=⟨fun|101=>41|208=>75|206=>74|n=>n,fun|9=>9|4=>4|3=>3|n=>n,fun|n=>n⟩
theorem Tryz.lays101:Go.Proofs.Lays.n101 prog lays101_ren:=by repeat' first|kernel_rfl|(intro;kernel_rfl)|constructor
open Go.RowKit Go.Lib in
theorem Tryz.strings_TrimPrefix (s p:ByteArray) (w:World):Calls prog 41 #[.string s,.string p] w fun e w'=>e= .returned (.string ⟨(Lib.trimPrefix s.data.toList p.data.toList).toArray⟩)∧w'=w:=Any.strings_TrimPrefix lays101 s p w
end Go.Proofs
