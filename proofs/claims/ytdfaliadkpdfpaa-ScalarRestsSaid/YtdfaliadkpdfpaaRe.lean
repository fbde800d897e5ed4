/- A number's bytes: join, rest. -/
import Derived.Test.YtdfaliadkpdfpaaTi
namespace Go.Proofs.Ytdfaliadkpdfpaa
set_option linter.unusedSimpArgs false
set_option linter.unusedVariables false
open Go.RowKit

/-- A number as the program hands it over. -/
def num (n : Nat) : Value := .agg (cs8 (le 32 n)).toArray
/-- The bytes that lie there when i of them have been put. -/
def put_ (n i : Nat) : List UInt8 := (le 32 n).take i ++ List.replicate (32 - i) 0
theorem put_length (n i : Nat) (hi : i ≤ 32) : (put_ n i).length = 32 := by
  rw [put_, List.length_append, List.length_take, le_length, List.length_replicate]
  omega
theorem put_step (n i : Nat) (hi : i < 32) : (put_ n i).set i (UInt8.ofNat (n / 256 ^ i)) = put_ n (i + 1) := by
  have hl : i < (le 32 n).length := by rw [le_length]; exact hi
  have e := le_at 32 n i hi
  rw [List.getElem?_eq_getElem hl] at e
  injection e with e
  unfold put_
  have ht : ((le 32 n).take i).length = i := by rw [List.length_take, le_length]; omega
  rw [List.set_append_right _ _ (by omega), ht, Nat.sub_self, show 32 - i = (32 - (i + 1)) + 1 by omega, List.replicate_succ, List.set_cons_zero, List.take_succ_eq_append_getElem hl, e, List.append_assoc]
  rfl
theorem put_all (n : Nat) : put_ n 32 = le 32 n := by
  rw [put_, List.take_of_length_le (by rw [le_length]; omega)]
  simp

theorem byte_val (n i : Nat) : B8 (UInt8.ofNat (n / 256 ^ i)) = Value.int .u8 ((n : Int) / 2 ^ (64 * (i / 8)) % 18446744073709551616 / 2 ^ (i % 8 * 8) % 256) := by
  have h := word_byte n (i / 8) (i % 8) (Nat.mod_lt _ (by omega))
  rw [show 8 * (i / 8) + i % 8 = i by omega, Nat.mul_comm 8 (i % 8)] at h
  have e : ((n : Int) / 2 ^ (64 * (i / 8)) % 18446744073709551616 / 2 ^ (i % 8 * 8) % 256) = ((n / 2 ^ (64 * (i / 8)) % 18446744073709551616 / 2 ^ (i % 8 * 8) % 256 : Nat) : Int) := by simp
  rw [e, h, B8]
  simp
theorem num_info (n : Nat) : (Try.prog.info? 25).map (·.size) = some (cs8 (le 32 n)).length := by rw [cs8_length, le_length]; exact info25

set_option maxHeartbeats 800000 in
theorem join_any (n g : Nat) (w : World) (hg : Bk w g (cs64 (wd n))) : Calls Try.prog 15 #[.pointer (some ⟨g, 0, none⟩)] w fun e w' => e = .returned (num n) ∧ Below w.heap.size w w' := by
  have HG := Lib.hid (hg.old (.cells z25.toArray 25))
  have HO := Lib.hid (show Bk (w.alloc (.cells z25.toArray 25)) w.heap.size (cs8 (put_ n 0)) from by
    have := Bk.new w z25 25
    rw [show cs8 (put_ n 0) = z25 by rw [put_]; rfl]
    exact this)
  have HB := Lib.hid (bl_alloc (bl0 w) (.cells z25.toArray 25))
  have hgl := hg.lt
  clear hg
  go_enter Try.func15, Try.ntmps15
  go_wp2_with (first | (refine wpList_alloc_z rfl 25 rfl z25 zero25 ?_) | fail)
  go_loopw [4] (fun v wr => ∃ i : Nat, i ≤ 32 ∧ v = .int .i64 (i : Int) ∧ Hid (Bk wr g (cs64 (wd n))) ∧ Hid (Bk wr w.heap.size (cs8 (put_ n i))) ∧ Hid (Below w.heap.size w wr)) (fun v _ => 32 - (intOf v).toNat)
  case atStart => exact ⟨0, by omega, rfl, HG, HO, HB⟩
  case round =>
    clear HG HO HB
    obtain ⟨i, hi, rfl, HG, HO, HB⟩ := hrel
    by_cases hlt : i < 32
    · have hq : i / 8 < 4 := by omega
      have hcw := HG.out.cell (k := 3 - i / 8) (v := .int .u64 (((UInt64.ofNat (n / 2 ^ (64 * (i / 8)))).toNat : Nat) : Int)) (by
        rw [cs64, List.getElem?_map, wd_at n _ (by omega), show 3 - (3 - i / 8) = i / 8 by omega]; rfl)
      have hpl : (cs8 (put_ n i)).length = 32 := by rw [cs8_length, put_length _ _ hi]
      have hco := HO.out.cell (List.getElem?_eq_getElem (show i < (cs8 (put_ n i)).length by omega))
      have hfo := HO.out.frozen i
      generalize (cs8 (put_ n i))[i]'(by omega) = u at hco
      have HV := Lib.hid (byte_val n i)
      have HS := Lib.hid (put_step n i hlt)
      clear hpl hq
      go_wp2_with fail
      go_roundw
      case rel =>
        refine ⟨i + 1, by omega, by go_num, Lib.hid (HG.out.setCell_ne (by omega) _ _), Lib.hid ?_, Lib.hid (bl_setCell HB.out (Nat.le_refl _) _ _)⟩
        rw [← HS.out, cs8, List.map_set, HV.out]
        exact HO.out.setCell _ _
      case measure => simp [intOf]; omega
    · obtain rfl : i = 32 := by omega
      have HN := Lib.hid (num_info n)
      rw [put_all] at HO
      go_wp2_with (first | (refine wpList_load_at rfl 25 _ rfl _ rfl (cs8 (le 32 n)) _ (HO.out.at_) Try.underlying25 rfl HN.out ?_) | (refine wpList_store_bk rfl 25 _ _ rfl w.heap.size rfl (cs8 (le 32 n)) (cs8 (le 32 n)) rfl HO.out HN.out rfl (cs8_all _) ?_))
      exact ret_bk rfl w.heap.size _ _ rfl rfl (HO.out.setRow _) Try.underlying25 rfl HN.out ⟨rfl, bl_setRow HB.out (Nat.le_refl _) _⟩

theorem cs_1 : cs64 (wd 1) = [.int .u64 0, .int .u64 0, .int .u64 0, .int .u64 1] := by
  rw [show wd 1 = [0, 0, 0, 1] by decide +kernel]; rfl
set_option maxHeartbeats 800000 in
theorem rest_any (A : Option Addr) (m c : Nat) (bs : List UInt8) (hm : m ≤ 1000000) (w : World) (hr : Rd w w.heap.size A m c bs) :
    Calls Try.prog 14 #[.slice A m c] w fun e w' => e = .returned (.agg (cs64 (wd (val bs % LL))).toArray) ∧ Below w.heap.size w w' := by
  have H1 := Lib.hid cs_1
  have HI := Lib.hid (show (Try.prog.info? 40).map (·.size) = some (cs64 (wd (val bs % LL))).length by rw [cs64_length, wd_length]; exact info40)
  have HL := Lib.hid (show z40.length = (cs64 (wd (val bs % LL))).length by rw [cs64_length, wd_length, len_z40])
  have HM := Lib.hid hm
  have HR := Lib.hid hr
  clear hm hr
  go_enter Try.func14, Try.ntmps14
  go_wp2_with (first | (refine wpList_alloc_z rfl 40 rfl z40 zero40 ?_) | fail)
  have hB1 := bl_alloc (bl_alloc (bl0 w) (.cells z40.toArray 40)) (.cells #[.int .u64 0, .int .u64 0, .int .u64 0, .int .u64 1] 40)
  have hX1 : Bk ((w.alloc (.cells z40.toArray 40)).alloc (.cells #[.int .u64 0, .int .u64 0, .int .u64 0, .int .u64 1] 40)) (w.heap.size + 1) (cs64 (wd 1)) := by
    rw [H1.out]
    have := Bk.new (w.alloc (.cells z40.toArray 40)) [.int .u64 0, .int .u64 0, .int .u64 0, .int .u64 1] 40
    simpa using this
  have hO1 : Bk ((w.alloc (.cells z40.toArray 40)).alloc (.cells #[.int .u64 0, .int .u64 0, .int .u64 0, .int .u64 1] 40)) w.heap.size z40 := (Bk.new w z40 40).old _
  have hr1 := (HR.out.below hB1).more hB1.size
  refine (times_any A m c bs HM.out 1 (w.heap.size + 1) (by decide) _ hr1 hX1).mono ?_; rintro e w2 ⟨rfl, hb2⟩
  rw [Nat.mul_one]
  have HO := Lib.hid (hO1.keep hb2)
  have HB := Lib.hid (bl_call hB1 hb2)
  clear hB1 hX1 hO1 hr1 hb2
  go_wp2_with (first | (refine wpList_store_bk rfl 40 _ _ rfl w.heap.size rfl (cs64 (wd (val bs % LL))) z40 rfl HO.out HI.out HL.out (cs64_one _) ?_))
  exact ret_bk rfl w.heap.size _ _ rfl rfl (HO.out.setRow _) Try.underlying40 rfl HI.out ⟨rfl, bl_setRow HB.out (Nat.le_refl _) _⟩

/-- A result row behind another result. -/
theorem results_num {fn : Func} {p q : Tmp} (h : fn.results = #[.cell p 25, .tmp q]) (tmps : Array Value) (w : World) (g n : Nat)
    (hp : tmps.getD p undef = .pointer (some ⟨g, 0, none⟩)) (hg : Bk w g (cs8 (le 32 n))) : (results fn tmps).run Try.prog w = .ok (.tuple #[num n, tmps.getD q undef]) w := by
  obtain ⟨t, hg⟩ := hg
  have hp' : tmps[p]?.getD undef = .pointer (some ⟨g, 0, none⟩) := by simpa using hp
  have hl := run_loadVar_row w g t 25 (cs8 (le 32 n)).toArray (0, 0) _ hg Try.underlying25 rfl (by have := num_info n; simpa using this)
  simp [results, h, hp', asAddr, hl, num]

set_option maxHeartbeats 800000 in
theorem Rest_any (A : Option Addr) (m c : Nat) (bs : List UInt8) (hm : m ≤ 64) (w : World) (hr : Rd w w.heap.size A m c bs) :
    Calls Try.prog 6 #[.slice A m c] w fun e w' => e = .returned (.tuple #[num (val bs % LL), .int .i64 0]) ∧ Below w.heap.size w w' := by
  have hd : decide (64 < (m : Int)) = false := by simp; omega
  have HM := Lib.hid (show m ≤ 1000000 by omega)
  have HR := Lib.hid hr
  have HI := Lib.hid (show (Try.prog.info? 40).map (·.size) = some (cs64 (wd (val bs % LL))).length by rw [cs64_length, wd_length]; exact info40)
  have HL := Lib.hid (show z40.length = (cs64 (wd (val bs % LL))).length by rw [cs64_length, wd_length, len_z40])
  have HN := Lib.hid (num_info (val bs % LL))
  have HZ := Lib.hid (show z25.length = (cs8 (le 32 (val bs % LL))).length by rw [cs8_length, le_length, len_z25])
  clear hr
  go_enter Try.func6, Try.ntmps6
  go_wp2_with (first | (refine wpList_alloc_z rfl 25 rfl z25 zero25 ?_) | fail)
  have HB0 := Lib.hid (bl_alloc (bl0 w) (.cells z25.toArray 25))
  have HO0 := Lib.hid (Bk.new w z25 25)
  refine (rest_any A m c bs HM.out _ ((HR.out.below HB0.out).more HB0.out.size)).mono ?_; rintro e w1 ⟨rfl, hb⟩
  have HB1 := Lib.hid (bl_call HB0.out hb)
  have HO1 := Lib.hid (HO0.out.keep hb)
  have HV := Lib.hid (Bk.new w1 z40 40)
  clear hb HB0 HO0
  go_wp2_with (first | (refine wpList_alloc_z rfl 40 rfl z40 zero40 ?_) | (refine wpList_store_bk rfl 40 _ _ rfl w1.heap.size rfl (cs64 (wd (val bs % LL))) z40 rfl HV.out HI.out HL.out (cs64_one _) ?_) | fail)
  have hlt := HO1.out.lt
  have HB2 := Lib.hid (bl_setRow (bl_alloc HB1.out (.cells z40.toArray 40)) (show w.heap.size ≤ w1.heap.size by omega) (cs64 (wd (val bs % LL))).toArray)
  have HO2 := Lib.hid ((HO1.out.old (.cells z40.toArray 40)).other (show w.heap.size ≠ w1.heap.size by omega) (cs64 (wd (val bs % LL))).toArray)
  refine (join_any (val bs % LL) w1.heap.size _ (HV.out.setRow _)).mono ?_; rintro e w2 ⟨rfl, hb⟩
  have HB3 := Lib.hid (bl_call HB2.out hb)
  have HO3 := Lib.hid (HO2.out.keep hb)
  clear hb HB2 HO2 HV HO1 HB1
  unfold num
  go_wp2_with (first | (refine wpList_store_bk rfl 25 _ _ rfl w.heap.size rfl (cs8 (le 32 (val bs % LL))) z25 rfl HO3.out HN.out HZ.out (cs8_all _) ?_))
  refine bodyPost_ret (results_num rfl _ _ w.heap.size (val bs % LL) rfl (HO3.out.setRow _)) rfl ?_
  exact ⟨rfl, bl_setRow HB3.out (Nat.le_refl _) _⟩

set_option maxHeartbeats 800000 in
theorem Rest_long (A : Option Addr) (m c : Nat) (hm : 64 < m) (w : World) :
    Calls Try.prog 6 #[.slice A m c] w fun e w' => e = .returned (.tuple #[num 0, .int .i64 3]) ∧ Below w.heap.size w w' := by
  have hd : decide (64 < (m : Int)) = true := by simp; omega
  have HO := Lib.hid (Bk.new w z25 25)
  have HE := Lib.hid (show cs8 (le 32 0) = z25 from rfl)
  have HZ := Lib.hid (show Value.agg z25.toArray = .agg (cs8 (le 32 0)).toArray from rfl)
  go_enter Try.func6, Try.ntmps6
  go_wp2_with (first | (refine wpList_alloc_z rfl 25 rfl z25 zero25 ?_) | (refine wpList_store_bk rfl 25 _ _ rfl w.heap.size rfl z25 z25 rfl HO.out (by rw [len_z25]; exact info25) rfl (cs8_all _) ?_) | fail)
  refine bodyPost_ret (results_num rfl _ _ w.heap.size 0 rfl (HO.out.setRow _)) rfl ?_
  exact ⟨rfl, bl_setRow (bl_alloc (bl0 w) _) (Nat.le_refl _) _⟩
end Go.Proofs.Ytdfaliadkpdfpaa
