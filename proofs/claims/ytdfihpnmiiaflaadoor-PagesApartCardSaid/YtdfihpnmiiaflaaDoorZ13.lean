/- Texts of this claim, one behind the other: PBa, PBb, PBc, PPb. -/
import Derived.Test.YtdfihpnmiiaflaaDoorZ08
import Derived.Test.YtdfihpnmiiaflaaDoorZ01
import Derived.Test.YtdfihpnmiiaflaaDoorZ09
import Derived.Test.YtdfihpnmiiaflaaDoorZ10
import Derived.Test.YtdfihpnmiiaflaaDoorZ12
import Derived.Test.YtdfihpnmiiaflaaDoorZ11
set_option linter.unusedSimpArgs false
set_option linter.unusedVariables false
section
/- A bitmap in memory: made, asked, changed, counted, told. -/
namespace Go.Proofs.YtdfihpnmiiaflaaDoor
open Go.RowKit
set_option linter.unusedSimpArgs false
set_option linter.unusedVariables false

/-- The cells of words. -/
def cN (W : List Nat) : List Value := W.map fun x : Nat => Value.int .u64 (x : Int)
theorem cN_length (W : List Nat) : (cN W).length = W.length := by simp [cN]
theorem cN_get {W : List Nat} {i : Nat} (h : i < W.length) : (cN W)[i]? = some (.int .u64 ((W.getD i 0 : Nat) : Int)) := by
  simp [cN, List.getD_eq_getElem?_getD, List.getElem?_eq_getElem h]
theorem cN_set (W : List Nat) (i x : Nat) : (cN W).set i (.int .u64 (x : Int)) = cN (W.set i x) := by simp [cN, List.map_set]
/-- A bitmap, as a value. -/
abbrev bmv (g m : Nat) : Value := .slice (some ⟨g, 0, none⟩) m m
theorem bit_test (x k : Nat) (hx : x < 18446744073709551616) : (bits BinOp.and IntKind.u64 ((x : Int) / 2 ^ k) 1 == 1) = x.testBit k := by
  have e : ((x : Int) / 2 ^ k) = ((x / 2 ^ k : Nat) : Int) := by simp
  have h1 := u64_and_nat (x / 2 ^ k) 1 (Nat.lt_of_le_of_lt (Nat.div_le_self _ _) hx) (by omega)
  rw [e, show (1 : Int) = ((1 : Nat) : Int) from rfl, h1, Nat.and_one_is_mod, Nat.testBit_eq_decide_div_mod_eq]
  by_cases h : x / 2 ^ k % 2 = 1
  · rw [h]; simp
  · have : x / 2 ^ k % 2 = 0 := by omega
    rw [this]; simp

section
variable {w : World} {g : Nat} {W : List Nat} {U : List Bool}
theorem has_b (hk : Bk w g (cN W)) (hW : Bw W U) (hl : W.length ≤ 16384) (n : Int) (h1 : -9223372036854775808 ≤ n) (h2 : n ≤ 9223372036854775807) :
    Calls Tryd.prog 30 #[bmv g W.length, .int .i64 n] w fun e w' => e = .returned (.bool (decide (0 ≤ n) && U.getD n.toNat false)) ∧ w' = w := by
  by_cases h0 : 0 ≤ n
  · obtain ⟨k, rfl⟩ : ∃ k : Nat, n = (k : Int) := ⟨n.toNat, by omega⟩
    by_cases hb : k < 64 * W.length
    · have hc := hk.cell (cN_get (W := W) (i := k / 64) (by omega))
      have hx := hW.wlt (j := k / 64) (by omega)
      have HB := Lib.hid (hW.bit hb)
      generalize W.getD (k / 64) 0 = x at hc hx HB
      have HT := Lib.hid (bit_test x (k % 64) hx)
      clear hk hW
      go_enter Tryd.func30, Tryd.ntmps30
      go_wp2
      go_ret
      refine ⟨?_, rfl⟩
      rw [HT.out, HB.out]
      simp
    · have HO := Lib.hid (hW.out (i := k) (by omega))
      go_enter Tryd.func30, Tryd.ntmps30
      go_wp2
      go_ret
      refine ⟨?_, rfl⟩
      have := HO.out
      rw [List.getD_eq_getElem?_getD] at this
      simp [this]
  · go_enter Tryd.func30, Tryd.ntmps30
    go_wp2
    go_ret
    refine ⟨?_, rfl⟩
    simp; omega
theorem shl_one (k : Nat) (h : k < 64) : IntKind.u64.wrap ((2 : Int) ^ k) = ((2 ^ k : Nat) : Int) := by
  have : (2 ^ k : Nat) < 2 ^ 64 := Nat.pow_lt_pow_right (by decide) h
  rw [show ((2 : Int) ^ k) = ((2 ^ k : Nat) : Int) by simp, wrapN, Nat.mod_eq_of_lt this]
theorem wq (k : Nat) (h : k ≤ 1048576) : IntKind.i64.wrap ((k : Int) / 64) = ((k / 64 : Nat) : Int) := by simp [IntKind.wrap, IntKind.signed, IntKind.bits]; omega
theorem wr' (k : Nat) : (k : Int).tmod 64 = ((k % 64 : Nat) : Int) := by
  rw [Int.tmod_eq_emod_of_nonneg (by omega)]; simp
theorem shl_run (r : Nat) (h : r < 64) (w : World) : (Op.shift .shl .u64 1 .i64 (r : Int)).run Tryd.prog w = .ok (.int .u64 ((2 ^ r : Nat) : Int)) w := by
  have hs := shl_one r h
  have : ¬ ((r : Int) < 0) := by omega
  unfold Op.shift
  simp [this, go_sem]
  rw [Nat.min_eq_left (by omega)]
  simpa using hs
theorem or_nat (x y : Nat) (hx : x < 18446744073709551616) (hy : y < 18446744073709551616) : bits .or .u64 (x : Int) (y : Int) = ((x ||| y : Nat) : Int) := u64_or_nat x y hx hy
set_option maxRecDepth 100000 in
theorem add_b (hk : Bk w g (cN W)) (hW : Bw W U) (hl : W.length ≤ 16384) (k : Nat) (hu : k < U.length) :
    Calls Tryd.prog 28 #[bmv g W.length, .int .i64 (k : Int)] w fun e w' => e = .returned (.tuple #[]) ∧ Bk w' g (cN (W.set (k / 64) (W.getD (k / 64) 0 ||| 2 ^ (k % 64)))) ∧ Kp (· = g) w w' := by
  have hle := hW.le
  have hc := hk.cell (cN_get (W := W) (i := k / 64) (by omega))
  have hx := hW.wlt (j := k / 64) (by omega)
  have HK := Lib.hid hk
  have hfr : w.drew.frozen? ⟨g, k / 64, none⟩ = false := hk.drew.frozen _
  clear hk hW
  generalize W.getD (k / 64) 0 = x at hc hx
  have hwk := wq k (by omega)
  have hwr := wr' k
  have hkl : k / 64 < W.length := by omega
  have hm : k % 64 < 64 := Nat.mod_lt _ (by decide)
  generalize k / 64 = q at hwk hc hkl hfr ⊢
  generalize k % 64 = r at hwr hm ⊢
  have hL := shl_run r hm w.drew
  have hp : 2 ^ r < 18446744073709551616 := Nat.pow_lt_pow_right (show 1 < 2 by decide) hm
  have HO := Lib.hid (or_nat x (2 ^ r) hx hp)
  have HS := Lib.hid (shl_one r hm)
  go_enter Tryd.func28, Tryd.ntmps28
  refine wp_region_still_tail 10 (by kernel_rfl) (by kernel_rfl) ?_
  simp only [List.take_succ_cons, List.take_zero, List.drop_succ_cons, List.drop_zero]
  iterate 10 still_step
  refine wpStill_nil ?_
  change wpList _ _ _ _ _ w.drew
  go_wp2
  go_end0
  rw [HS.out, HO.out]
  refine ⟨rfl, ?_, (Kp.of_only (Only.set _ _ _)).undrew⟩
  rw [← cN_set]
  exact HK.out.drew.setCell _ _
theorem info78 : (Tryd.prog.info? 78).map (fun i => (i.zero, i.size, i.bytes)) = some (some (.int .u64 0), 1, 8) := by kernel_rfl
theorem run_make63w (w : World) (n : Nat) (hn : n ≤ 16384) : (Instr.makeSlice 63 (.int .i64 (n : Int)) (.int .i64 (n : Int))).run Tryd.prog w = .ok (bmv w.heap.size n) (w.alloc (.cells (cN (List.replicate n 0)).toArray 78)) := by
  obtain ⟨i, hi, hz0, hz1, hz2⟩ := info_parts info78
  have hr := run_make (P := Tryd.prog) w 63 78 i _ Tryd.underlying63 hi hz0 .i64 .i64 n n (by omega) (Int.le_refl _) (by rw [hz2]; omega) (by omega)
  rw [hr, hz1]
  have : madeCells (Value.int .u64 0).cells (((n : Int).toNat) * 1) = (cN (List.replicate n 0)).toArray := by
    apply Array.ext
    · rw [size_madeCells, List.size_toArray, cN_length, List.length_replicate]; simp
    · intro j h1 h2
      simp [madeCells, cN, Value.cells, Nat.mod_one]
  rw [this]
  simp
set_option maxRecDepth 100000 in
theorem newb (w : World) (n : Nat) (hn : n ≤ 16384) : Calls Tryd.prog 27 #[.int .i64 (n : Int)] w fun e w' => e = .returned (bmv w.heap.size ((n + 63) / 64)) ∧ w' = w.alloc (.cells (cN (List.replicate ((n + 63) / 64) 0)).toArray 78) := by
  have hm := run_make63w w ((n + 63) / 64) (by omega)
  have he : ((n : Int) + 64 - 1) / 64 = (((n + 63) / 64 : Nat) : Int) := by omega
  generalize hx : (cN (List.replicate ((n + 63) / 64) 0)).toArray = X at hm
  have HX := Lib.hid hx
  clear hx
  generalize (n + 63) / 64 = m at hm he HX
  go_enter Tryd.func27, Tryd.ntmps27
  go_wp2
  go_ret
  exact ⟨rfl, rfl⟩
theorem xor_max (x : Nat) (h : x < 18446744073709551616) : bits BinOp.xor IntKind.u64 IntKind.u64.max (x : Int) = ((18446744073709551615 - x : Nat) : Int) := by
  have h1 := u64_xor_nat 18446744073709551615 x (by omega) h
  have e : (18446744073709551615 : Nat) ^^^ x = 18446744073709551615 - x := by
    apply Nat.eq_of_testBit_eq
    intro i
    have h2 := Nat.testBit_two_pow_sub_succ (x := x) (n := 64) h i
    have e2 : 2 ^ 64 - (x + 1) = 18446744073709551615 - x := by omega
    have h3 := Nat.testBit_two_pow_sub_succ (x := 0) (n := 64) (by decide) i
    rw [e2] at h2
    rw [h2, Nat.testBit_xor]
    have h4 : (18446744073709551615 : Nat).testBit i = decide (i < 64) := by simpa using h3
    rw [h4]
    by_cases hi : i < 64
    · simp [hi]
    · have : x.testBit i = false := Nat.testBit_lt_two_pow (Nat.lt_of_lt_of_le h (Nat.pow_le_pow_right (show 2 > 0 by decide) (show 64 ≤ i by omega)))
      simp [hi, this]
  rw [show IntKind.u64.max = ((18446744073709551615 : Nat) : Int) from by decide, h1, e]
theorem least_b (hk : Bk w g (cN W)) (hT : Tab w) (hlt : ∀ x ∈ W, x < 18446744073709551616) (hl : W.length ≤ 16384) :
    Calls Tryd.prog 33 #[bmv g W.length] w fun e w' => e = .returned (.int .i64 (leastW 0 W : Nat)) ∧ w' = w := by
  go_enter Tryd.func33, Tryd.ntmps33
  go_wp2
  go_loop [8] (fun v8 => ∃ i : Nat, v8 = .int .i64 (i : Int) ∧ i ≤ W.length ∧ leastW i (W.drop i) = leastW 0 W) (fun v8 => W.length - (RowKit.intOf v8).toNat)
  case atStart => exact ⟨0, rfl, by omega, rfl⟩
  case round =>
    obtain ⟨i, rfl, hi, hL⟩ := hrel
    by_cases hlt2 : i < W.length
    · have hc := hk.cell (cN_get hlt2)
      have hx : W.getD i 0 < 18446744073709551616 := by
        rw [List.getD_eq_getElem?_getD, List.getElem?_eq_getElem hlt2]; exact hlt _ (List.getElem_mem hlt2)
      have hd : W.drop i = W.getD i 0 :: W.drop (i + 1) := by
        rw [List.drop_eq_getElem_cons hlt2, List.getD_eq_getElem?_getD, List.getElem?_eq_getElem hlt2]; rfl
      rw [hd, leastW] at hL
      clear hd
      generalize W.getD i 0 = x at hc hx hL
      have HZ := Lib.hid (tz_any (18446744073709551615 - x) (by omega) w hT)
      rw [← xor_max x hx] at HZ
      obtain ⟨hi1, hi2⟩ := idx_word hx
      clear hi1
      generalize Lib.ctz 64 (18446744073709551615 - x) = c at HZ hL hi2
      have HL := Lib.hid hL
      clear hL
      by_cases hc64 : c < 64
      · go_wp2_with (go_at_call 49; refine HZ.out.mono ?_; rintro e w' ⟨rfl, hw⟩; subst w')
        go_ret
        have := HL.out
        rw [if_pos hc64] at this
        refine ⟨?_, rfl⟩
        rw [← this]
        simp
      · go_wp2_with (go_at_call 49; refine HZ.out.mono ?_; rintro e w' ⟨rfl, hw⟩; subst w')
        go_round
        case rel =>
          have := HL.out
          rw [if_neg hc64] at this
          exact ⟨i + 1, by go_num, by omega, this⟩
        case measure => simp [RowKit.intOf]; omega
    · obtain rfl : i = W.length := by omega
      have HL := Lib.hid hL
      clear hL
      go_wp2
      go_ret
      have := HL.out
      rw [List.drop_length, leastW] at this
      refine ⟨?_, rfl⟩
      rw [← this]
      simp
end
end Go.Proofs.YtdfihpnmiiaflaaDoor
end
section
/- A bitmap in memory: a number taken out, how many there are, which there are. -/
namespace Go.Proofs.YtdfihpnmiiaflaaDoor
open Go.RowKit
set_option linter.unusedSimpArgs false
set_option linter.unusedVariables false

theorem andnot_nat (x y : Nat) (hx : x < 18446744073709551616) (hy : y < 18446744073709551616) : bits .andNot .u64 (x : Int) (y : Int) = ((x &&& (18446744073709551615 - y) : Nat) : Int) := by
  have h1 : (BitVec.ofInt 64 (x : Int)).toNat = x := by
    rw [BitVec.ofInt_natCast, BitVec.toNat_ofNat]; exact Nat.mod_eq_of_lt (by omega)
  have h2 : (BitVec.ofInt 64 (y : Int)).toNat = y := by
    rw [BitVec.ofInt_natCast, BitVec.toNat_ofNat]; exact Nat.mod_eq_of_lt (by omega)
  show IntKind.u64.wrap ((BitVec.ofInt 64 (x : Int) &&& ~~~ BitVec.ofInt 64 (y : Int)).toNat : Int) = _
  have h3 : x &&& (18446744073709551615 - y) < 18446744073709551616 := Nat.lt_of_le_of_lt Nat.and_le_left hx
  rw [BitVec.toNat_and, BitVec.toNat_not, h1, h2, wrapN]
  have e : 2 ^ 64 - 1 - y = 18446744073709551615 - y := by omega
  rw [e, Nat.mod_eq_of_lt h3]
section
variable {w : World} {g : Nat} {W : List Nat} {U : List Bool}
set_option maxRecDepth 100000 in
theorem remove_b (hk : Bk w g (cN W)) (hW : Bw W U) (hl : W.length ≤ 16384) (k : Nat) (hu : k < U.length) :
    Calls Tryd.prog 39 #[bmv g W.length, .int .i64 (k : Int)] w fun e w' => e = .returned (.tuple #[]) ∧ Bk w' g (cN (W.set (k / 64) (drop1 (W.getD (k / 64) 0) (k % 64)))) ∧ Kp (· = g) w w' := by
  have hle := hW.le
  have hc := hk.cell (cN_get (W := W) (i := k / 64) (by omega))
  have hx := hW.wlt (j := k / 64) (by omega)
  have HK := Lib.hid hk
  have hfr : w.drew.frozen? ⟨g, k / 64, none⟩ = false := hk.drew.frozen _
  clear hk hW
  generalize W.getD (k / 64) 0 = x at hc hx
  have hwk := wq k (by omega)
  have hwr := wr' k
  have hkl : k / 64 < W.length := by omega
  have hm : k % 64 < 64 := Nat.mod_lt _ (by decide)
  generalize k / 64 = q at hwk hc hkl hfr ⊢
  generalize k % 64 = r at hwr hm ⊢
  have hL := shl_run r hm w.drew
  have hp : 2 ^ r < 18446744073709551616 := Nat.pow_lt_pow_right (show 1 < 2 by decide) hm
  have HO := Lib.hid (andnot_nat x (2 ^ r) hx hp)
  have HS := Lib.hid (shl_one r hm)
  go_enter Tryd.func39, Tryd.ntmps39
  refine wp_region_still_tail 10 (by kernel_rfl) (by kernel_rfl) ?_
  simp only [List.take_succ_cons, List.take_zero, List.drop_succ_cons, List.drop_zero]
  iterate 10 still_step
  refine wpStill_nil ?_
  change wpList _ _ _ _ _ w.drew
  go_wp2
  go_end0
  rw [HS.out, HO.out]
  refine ⟨rfl, ?_, (Kp.of_only (Only.set _ _ _)).undrew⟩
  rw [← cN_set]
  exact HK.out.drew.setCell _ _
theorem pop_le (x : Nat) : pop 64 x ≤ 64 := by
  have := List.count_le_length (a := true) (l := bitsN 64 x)
  rw [bitsN_length] at this
  exact this
theorem sum_pop_le : ∀ W : List Nat, (W.map (pop 64)).sum ≤ 64 * W.length
  | [] => by simp
  | x :: W => by have := sum_pop_le W; have := pop_le x; simp; omega
theorem size_b (hk : Bk w g (cN W)) (hlt : ∀ x ∈ W, x < 18446744073709551616) (hl : W.length ≤ 16384) :
    Calls Tryd.prog 35 #[bmv g W.length] w fun e w' => e = .returned (.int .i64 ((W.map (pop 64)).sum : Nat)) ∧ w' = w := by
  go_enter Tryd.func35, Tryd.ntmps35
  go_wp2
  go_loop [3, 8] (fun v3 v8 => ∃ i n : Nat, v8 = .int .i64 (i : Int) ∧ v3 = .int .i64 (n : Int) ∧ i ≤ W.length ∧ n ≤ 64 * i ∧ Hid (n + ((W.drop i).map (pop 64)).sum = (W.map (pop 64)).sum)) (fun _ v8 => W.length - (RowKit.intOf v8).toNat)
  case atStart => exact ⟨0, 0, rfl, rfl, by omega, by omega, Lib.hid (by simp)⟩
  case round =>
    obtain ⟨i, n, rfl, rfl, hi, hn, HL⟩ := hrel
    by_cases hlt2 : i < W.length
    · have hc := hk.cell (cN_get hlt2)
      have hx : W.getD i 0 < 18446744073709551616 := by
        rw [List.getD_eq_getElem?_getD, List.getElem?_eq_getElem hlt2]; exact hlt _ (List.getElem_mem hlt2)
      have hd : W.drop i = W.getD i 0 :: W.drop (i + 1) := by
        rw [List.drop_eq_getElem_cons hlt2, List.getD_eq_getElem?_getD, List.getElem?_eq_getElem hlt2]; rfl
      rw [hd, List.map_cons, List.sum_cons] at HL
      clear hd
      generalize W.getD i 0 = x at hc hx HL
      have HZ := Lib.hid (ones_any x hx w)
      have hp := pop_le x
      generalize pop 64 x = c at HZ HL hp
      go_wp2_with (go_at_call 50; refine HZ.out.mono ?_; rintro e w' ⟨rfl, hw⟩; subst w')
      go_round
      case rel => exact ⟨i + 1, n + c, by go_num, by go_num, by omega, by omega, Lib.hid (by have := HL.out; omega)⟩
      case measure => simp [RowKit.intOf]; omega
    · obtain rfl : i = W.length := by omega
      go_wp2
      go_ret
      have := HL.out
      rw [List.drop_length] at this
      refine ⟨?_, rfl⟩
      rw [← this]
      simp
end
end Go.Proofs.YtdfihpnmiiaflaaDoor
end
section
/- A bitmap in memory: which numbers there are. -/
namespace Go.Proofs.YtdfihpnmiiaflaaDoor
open Go.RowKit
set_option linter.unusedSimpArgs false
set_option linter.unusedVariables false

/-- make([]int, 0, n). -/
theorem wpList_maken {w : World} {ops : Array Oper} {rest : List Oper} {o : Oper} {a : Act} {Q : Exit → Act → World → Prop} (hgd : o.guard = none) (l c : Operand)
    (ho : o.op = Op.makeSlice 29 l c) {kl kc : IntKind} (C : Int) (hl : a.eval l = .int kl 0) (hc : a.eval c = .int kc C) (h0 : 0 ≤ C) (h1 : C ≤ 1048576) {base : Nat} (hbase : base ≤ w.heap.size)
    (h : ∀ v' w', Oi w' base v' [] → Below w.heap.size w w' → wpList Tryd.prog ops Q rest (a.put o.dst v') w') : wpList Tryd.prog ops Q (o :: rest) a w := by
  obtain ⟨i, hi, hz0, hz1, hz2⟩ := info_parts info_i64
  refine wpList_plain hgd fun K hK => ?_
  have hm : (maxLen : Int) = 9223372036854775807 := by simp [maxLen]
  have hr := run_make (P := Tryd.prog) w 29 3 i (.int .i64 0) Tryd.underlying29 hi hz0 kl kc 0 C (Int.le_refl _) h0 (by rw [hz2]; omega) (by omega)
  unfold Oper.wp execOp
  simp only [ho, hl, hc, hr, Sem.run_bind, Result.andThen_ok, Sem.run_pure]
  refine hK _ _ (h _ _ ?_ ?_)
  · have := World.ownsRow_made (base := base) (e := 3) (size := 1) w (madeCells (Value.int .i64 0).cells (C.toNat * i.size)) C.toNat hbase (by simp only [maxLen]; omega) (by rw [size_madeCells, hz1])
    simpa [Oi] using this
  · exact (Below.refl _ _).alloc (Nat.le_refl _) _
theorem wrapsub (x : Nat) (h0 : 0 < x) (h : x < 18446744073709551616) : IntKind.u64.wrap ((x : Int) - 1) = ((x - 1 : Nat) : Int) := by
  rw [show ((x : Int) - 1) = ((x - 1 : Nat) : Int) by omega, wrapN, Nat.mod_eq_of_lt (by omega)]
section
variable {w : World} {g : Nat} {W : List Nat} {U : List Bool}
set_option maxRecDepth 8192 in
theorem members_b (hk : Bk w g (cN W)) (hT : Tab w) (hlt : ∀ x ∈ W, x < 18446744073709551616) (hl : W.length ≤ 16384) :
    Calls Tryd.prog 36 #[bmv g W.length] w fun e w' => ∃ v, e = .returned v ∧ Oi w' w.heap.size v (trues 0 (wl W)) ∧ Below w.heap.size w w' := by
  have HSz := Lib.hid (size_b hk hlt hl)
  have hs := sum_pop_le W
  generalize (W.map (pop 64)).sum = n at HSz hs
  have HTl := Lib.hid (show (trues 0 (wl W)).length ≤ 1048576 by
    rw [trues_length]
    have := List.count_le_length (a := true) (l := wl W)
    rw [wl_length] at this
    omega)
  have HT := Lib.hid hT
  have HK := Lib.hid hk
  have HLT := Lib.hid hlt
  clear hT hk hlt
  go_enter Tryd.func36, Tryd.ntmps36
  go_wp2_with (first | (go_at_call 35; refine HSz.out.mono ?_; rintro e w' ⟨rfl, hw⟩; subst w') | (refine wpList_maken (base := w.heap.size) rfl _ _ rfl n rfl rfl (by omega) (by omega) (Nat.le_refl _) ?_; intro v1 w1 ho1 hb1; have HO1 := Lib.hid ho1; have HB1 := Lib.hid hb1; clear ho1 hb1))
  go_loopw [3, 11] (fun vl vi wr => ∃ i : Nat, i ≤ W.length ∧ vi = .int .i64 (i : Int) ∧ ∃ xs, Hid (Oi wr w.heap.size vl xs) ∧ Hid (xs ++ trues (i * 64) (wl (W.drop i)) = trues 0 (wl W)) ∧ Hid (Below w.heap.size w wr)) (fun _ vi _ => W.length - (RowKit.intOf vi).toNat)
  case atStart => exact ⟨0, by omega, rfl, [], HO1, Lib.hid (by simp), HB1⟩
  case round =>
    obtain ⟨i, hi, rfl, xs, HO, HX, HB⟩ := hrel
    by_cases hlt2 : i < W.length
    · have hc := (HK.out.keep HB.out).cell (cN_get hlt2)
      have hx : W.getD i 0 < 18446744073709551616 := by
        rw [List.getD_eq_getElem?_getD, List.getElem?_eq_getElem hlt2]; exact HLT.out _ (List.getElem_mem hlt2)
      have hd : W.drop i = W.getD i 0 :: W.drop (i + 1) := by
        rw [List.drop_eq_getElem_cons hlt2, List.getD_eq_getElem?_getD, List.getElem?_eq_getElem hlt2]; rfl
      rw [hd, wl_cons, trues_append, bitsN_length, ← List.append_assoc, show i * 64 + 64 = (i + 1) * 64 by omega] at HX
      clear hd
      generalize W.getD i 0 = x at hc hx HX
      obtain ⟨T, hTt⟩ : ∃ T, T = xs ++ trues (i * 64) (bitsN 64 x) := ⟨_, rfl⟩
      rw [← hTt] at HX
      have HTT := Lib.hid hTt
      clear hTt
      have hTn : T.length ≤ 1048576 := by
        have h1 := HTl.out
        rw [← HX.out, List.length_append] at h1
        omega
      go_wp2
      go_loopw [3, 5] (fun vl vx wr => ∃ y : Nat, y < 18446744073709551616 ∧ vx = .int .u64 (y : Int) ∧ ∃ ys, Hid (Oi wr w.heap.size vl ys) ∧ Hid (T = ys ++ trues (i * 64) (bitsN 64 y)) ∧ Hid (Below w.heap.size w wr)) (fun _ vx _ => (RowKit.intOf vx).toNat)
      case atStart => exact ⟨x, hx, rfl, xs, HO, HTT, HB⟩
      case round =>
        obtain ⟨y, hy, rfl, ys, HO2, HT2, HB2⟩ := hrel
        by_cases hy0 : y = 0
        · subst hy0
          have HE : T = ys := by rw [HT2.out, trues_zero, List.append_nil]
          subst HE
          clear HT2
          go_wp2
          go_roundw
          case rel => exact ⟨i + 1, by omega, by go_num, T, HO2, HX, HB2⟩
          case measure => simp [RowKit.intOf]; omega
        · have hy1 : 0 < y := by omega
          have HZ := Lib.hid (tz_any y hy wr (HT.out.below HB2.out HT.out.pos))
          have HE : Hid (T = (ys ++ [i * 64 + Lib.ctz 64 y]) ++ trues (i * 64) (bitsN 64 (y &&& (y - 1)))) := Lib.hid (by rw [HT2.out, trues_word hy1 hy]; simp)
          obtain ⟨hz1, _, _, _, hz5⟩ := low_bit hy1 hy
          have HA := Lib.hid (u64_and_nat y (y - 1) hy (by omega))
          have HS := Lib.hid (show ((y : Int) - 1) = ((y - 1 : Nat) : Int) by omega)
          have hyl : ys.length ≤ 4294967296 := by rw [HT2.out, List.length_append] at hTn; omega
          have HYL := Lib.hid hyl
          clear hyl HT2 hTn
          generalize Lib.ctz 64 y = c at HZ HE hz1
          generalize y &&& (y - 1) = y2 at HE hz5 HA
          go_wp2_with (first | (go_at_call 49; refine HZ.out.mono ?_; rintro e w' ⟨rfl, hw⟩; subst w') | (at_builtin; refine wpList_appn (base := w.heap.size) (u := i * 64 + c) (xs := ys) rfl _ _ rfl rfl ?qo rfl ?qr ?qb ?qh ?_))
          case qo => exact World.ownsRow.alloc HO2.out _
          case qr =>
            rw [cell_of_row _ wr.heap.size 0 _ 3 (0, 0) (heap_alloc_new wr _)]
            simp
          case qb => exact HYL.out
          case qh =>
            have := HB2.out.size
            simp
            omega
          intro v3 w3 ho3 hg3
          have HO3 := Lib.hid ho3
          have HB3 := Lib.hid ((bl_alloc HB2.out (.cells #[.int .i64 ((i : Int) * 64 + (c : Int))] 3)).grown hg3 (by have := HB2.out.size; simp; omega) HO2.out.base)
          clear ho3 hg3
          go_wp2
          go_roundw
          case rel => exact ⟨y2, by omega, by rw [HS.out, HA.out], _, HO3, HE, HB3⟩
          case measure => rw [HS.out, HA.out]; simp [RowKit.intOf]; omega
    · obtain rfl : i = W.length := by omega
      go_wp2
      go_ret
      refine ⟨_, rfl, ?_, HB.out⟩
      have := HX.out
      rw [List.drop_length] at this
      simp only [wl, List.flatMap_nil, trues, List.append_nil] at this
      rw [show trues 0 (wl W) = xs from this.symm]
      exact HO.out
end
end Go.Proofs.YtdfihpnmiiaflaaDoor
end
section
/- A page file in memory. -/
namespace Go.Proofs.YtdfihpnmiiaflaaDoor
set_option maxRecDepth 8192
set_option linter.unusedSimpArgs false
set_option linter.unusedVariables false
open Go.RowKit Go.Maps

/-- THE OBJECT AT q IS A PAGE FILE over the disk at p, its bitmap in block g. -/
structure Pg (w : World) (q g p s m : Nat) (B : List UInt8) (C : Ca) (W : List Nat) (U : List Bool) : Prop where
  hq : w.heap[q]? = some (.cells #[ptr p, .int .i64 (U.length : Int), bmv g W.length] 67 (0, 0))
  hd : Dk w p s m B C
  hb : Bk w g (cN W)
  hW : Bw W U
  hn : U.length = C.length / 2
  qp : q ≠ p
  qs : q ≠ s
  qm : q ≠ m
  gq : g ≠ q
  gp : g ≠ p
  gs : g ≠ s
  gm : g ≠ m

section
variable {w w' : World} {q g p s m : Nat} {B : List UInt8} {C : Ca} {W : List Nat} {U : List Bool}
theorem Pg.qlt (h : Pg w q g p s m B C W U) : q < w.heap.size := (Array.getElem?_eq_some_iff.1 h.hq).1
theorem Pg.of (h : Pg w q g p s m B C W U) (hq : w'.heap[q]? = w.heap[q]?) (hg : w'.heap[g]? = w.heap[g]?) (hp : w'.heap[p]? = w.heap[p]?) (hs : w'.heap[s]? = w.heap[s]?) (hm : w'.heap[m]? = w.heap[m]?) : Pg w' q g p s m B C W U :=
  ⟨hq.trans h.hq, h.hd.of hp hs hm, by obtain ⟨t, e⟩ := h.hb; exact ⟨t, hg.trans e⟩, h.hW, h.hn, h.qp, h.qs, h.qm, h.gq, h.gp, h.gs, h.gm⟩
theorem Pg.kp {may : Nat → Prop} (h : Pg w q g p s m B C W U) (hk : Kp may w w') (h1 : ¬ may q) (h2 : ¬ may g) (h3 : ¬ may p) (h4 : ¬ may s) (h5 : ¬ may m) : Pg w' q g p s m B C W U :=
  h.of (hk.block q h.qlt h1) (hk.block g h.hb.lt h2) (hk.block p h.hd.plt h3) (hk.block s h.hd.slt h4) (hk.block m h.hd.mlt h5)
theorem Pg.old (h : Pg w q g p s m B C W U) (hk : Below w.heap.size w w') : Pg w' q g p s m B C W U := h.of (hk.block q h.qlt) (hk.block g h.hb.lt) (hk.block p h.hd.plt) (hk.block s h.hd.slt) (hk.block m h.hd.mlt)
theorem Pg.drew (h : Pg w q g p s m B C W U) : Pg w.drew q g p s m B C W U := h.of rfl rfl rfl rfl rfl
theorem Pg.c0 (h : Pg w q g p s m B C W U) : w.cell? ⟨q, 0, none⟩ = some (ptr p) := by rw [cell_of_row w q 0 _ 67 (0, 0) h.hq]; rfl
theorem Pg.c1 (h : Pg w q g p s m B C W U) : w.cell? ⟨q, 1, none⟩ = some (.int .i64 (U.length : Int)) := by rw [cell_of_row w q 1 _ 67 (0, 0) h.hq]; rfl
theorem Pg.c2 (h : Pg w q g p s m B C W U) : w.cell? ⟨q, 2, none⟩ = some (bmv g W.length) := by rw [cell_of_row w q 2 _ 67 (0, 0) h.hq]; rfl
theorem Pg.ul (h : Pg w q g p s m B C W U) : U.length ≤ 8192 := by have := h.hn; have := h.hd.h1; omega
theorem Pg.wl (h : Pg w q g p s m B C W U) : W.length ≤ 128 := by have := h.ul; have := h.hW.len; omega
/-- The disk changes. -/
theorem Pg.disk {B' : List UInt8} {C' : Ca} (h : Pg w q g p s m B C W U) (hd : Dk w' p s m B' C') (hl : C'.length = C.length) (hk : Kp (fun k => k = s ∨ k = m) w w') : Pg w' q g p s m B' C' W U := by
  have hb := hk.block g h.hb.lt (by rintro (e | e); exact h.gs e; exact h.gm e)
  exact ⟨(hk.block q h.qlt (by rintro (e | e); exact h.qs e; exact h.qm e)).trans h.hq, hd, by obtain ⟨t, e⟩ := h.hb; exact ⟨t, hb.trans e⟩, h.hW, by rw [hl]; exact h.hn, h.qp, h.qs, h.qm, h.gq, h.gp, h.gs, h.gm⟩
/-- The bitmap changes. -/
theorem Pg.bits {W' : List Nat} {U' : List Bool} (h : Pg w q g p s m B C W U) (hb : Bk w' g (cN W')) (hW : Bw W' U') (hl : U'.length = U.length) (hk : Kp (· = g) w w') : Pg w' q g p s m B C W' U' := by
  have hWl : W'.length = W.length := by rw [hW.len, h.hW.len, hl]
  refine ⟨?_, h.hd.kp hk (fun e => h.gp e.symm) (fun e => h.gs e.symm) (fun e => h.gm e.symm), hb, hW, hl.trans h.hn, h.qp, h.qs, h.qm, h.gq, h.gp, h.gs, h.gm⟩
  rw [hk.block q h.qlt (fun e => h.gq e.symm), hl, hWl]
  exact h.hq

theorem used_lt {U : List Bool} {k : Nat} (hc : U.getD k false = true) : k < U.length := by
  by_cases hk : k < U.length
  · exact hk
  · rw [List.getD_eq_getElem?_getD, List.getElem?_eq_none (by omega)] at hc
    cases hc
theorem made_pg (h : Pg w q g p s m B C W U) : Calls Tryd.prog 29 #[ptr q] w fun e w' => e = .returned (.bool true) ∧ w' = w := by
  have c0 := h.c0
  clear h
  go_enter Tryd.func29, Tryd.ntmps29
  go_wp2
  go_ret
  exact ⟨rfl, rfl⟩
theorem made_pg_nil (w : World) : Calls Tryd.prog 29 #[.pointer none] w fun e w' => e = .returned (.bool false) ∧ w' = w := by
  go_enter Tryd.func29, Tryd.ntmps29
  go_wp2
  go_ret
  exact ⟨rfl, rfl⟩
theorem new_pg_nil (w : World) (v : Value) : Calls Tryd.prog 10 #[.pointer none, v] w fun e w' => e = .returned (.tuple #[.int .i64 0, .int .i64 1]) ∧ w' = w := by
  go_enter Tryd.func10, Tryd.ntmps10
  go_wp2_with (go_at_call 29; refine (made_pg_nil _).mono ?_; rintro e w' ⟨rfl, hw⟩; subst w')
  go_ret2
  exact ⟨rfl, rfl⟩
theorem read_pg_nil (w : World) (v : Value) : Calls Tryd.prog 9 #[.pointer none, v] w fun e w' => e = .returned (.tuple #[.slice none 0 0, .int .i64 1]) ∧ w' = w := by
  go_enter Tryd.func9, Tryd.ntmps9
  go_wp2_with (go_at_call 29; refine (made_pg_nil _).mono ?_; rintro e w' ⟨rfl, hw⟩; subst w')
  go_ret2
  exact ⟨rfl, rfl⟩
theorem keep_pg_nil (w : World) (v : Value) : Calls Tryd.prog 11 #[.pointer none, v] w fun e w' => e = .returned (.tuple #[.int .i64 0, .int .i64 1]) ∧ w' = w := by
  go_enter Tryd.func11, Tryd.ntmps11
  go_wp2_with (go_at_call 29; refine (made_pg_nil _).mono ?_; rintro e w' ⟨rfl, hw⟩; subst w')
  go_ret2
  exact ⟨rfl, rfl⟩
theorem free_pg_nil (w : World) (v : Value) : Calls Tryd.prog 20 #[.pointer none, v] w fun e w' => e = .returned (.int .i64 1) ∧ w' = w := by
  go_enter Tryd.func20, Tryd.ntmps20
  go_wp2_with (go_at_call 29; refine (made_pg_nil _).mono ?_; rintro e w' ⟨rfl, hw⟩; subst w')
  go_ret
  exact ⟨rfl, rfl⟩
theorem sync_pg_nil (w : World) : Calls Tryd.prog 21 #[.pointer none] w fun e w' => e = .returned (.int .i64 1) ∧ w' = w := by
  go_enter Tryd.func21, Tryd.ntmps21
  go_wp2_with (go_at_call 29; refine (made_pg_nil _).mono ?_; rintro e w' ⟨rfl, hw⟩; subst w')
  go_ret
  exact ⟨rfl, rfl⟩
theorem used_pg_nil (w : World) : Calls Tryd.prog 16 #[.pointer none] w fun e w' => e = .returned (.slice none 0 0) ∧ w' = w := by
  go_enter Tryd.func16, Tryd.ntmps16
  go_wp2_with (go_at_call 29; refine (made_pg_nil _).mono ?_; rintro e w' ⟨rfl, hw⟩; subst w')
  go_ret
  exact ⟨rfl, rfl⟩
theorem spare_pg_nil (w : World) : Calls Tryd.prog 14 #[.pointer none] w fun e w' => e = .returned (.int .i64 0) ∧ w' = w := by
  go_enter Tryd.func14, Tryd.ntmps14
  go_wp2_with (go_at_call 29; refine (made_pg_nil _).mono ?_; rintro e w' ⟨rfl, hw⟩; subst w')
  go_ret
  exact ⟨rfl, rfl⟩
theorem open_pg_nil (w : World) (v : Value) : Calls Tryd.prog 8 #[.pointer none, v] w fun e w' => e = .returned (.tuple #[.pointer none, .int .i64 1]) ∧ w' = w := by
  have HS := Lib.hid (size_nil w)
  go_enter Tryd.func8, Tryd.ntmps8
  go_wp2_with (go_at_call 26; refine HS.out.mono ?_; rintro e w' ⟨rfl, hw⟩; subst w')
  go_ret2
  exact ⟨rfl, rfl⟩
theorem used_pg (h : Pg w q g p s m B C W U) (hT : Tab w) : Calls Tryd.prog 16 #[ptr q] w fun e w' => ∃ v, e = .returned v ∧ Oi w' w.heap.size v (trues 0 U) ∧ Below w.heap.size w w' := by
  have HM := Lib.hid (made_pg h)
  have HU := Lib.hid (members_b h.hb hT h.hW.lt (by have := h.wl; omega))
  rw [h.hW.trues] at HU
  have c2 := h.c2
  clear h hT
  go_enter Tryd.func16, Tryd.ntmps16
  go_wp2_with (first | (go_at_call 29; refine HM.out.mono ?_; rintro e w' ⟨rfl, hw⟩; subst w') | (go_at_call 36; refine HU.out.mono ?_; rintro e w' ⟨v, rfl, ho, hb⟩; have HO := Lib.hid ho; have HB := Lib.hid hb; clear ho hb))
  go_ret
  exact ⟨_, rfl, HO.out, HB.out⟩
theorem sync_pg (h : Pg w q g p s m B C W U) : Calls Tryd.prog 21 #[ptr q] w fun e w' => e = .returned (.int .i64 0) ∧ Pg w' q g p s m (settle C (idx 0 C) B) (noC C.length) W U ∧ Kp (fun k => k = s ∨ k = m) w w' := by
  have HM := Lib.hid (made_pg h)
  have HF := Lib.hid (flush_any h.hd)
  have c0 := h.c0
  have HG := Lib.hid h
  clear h
  go_enter Tryd.func21, Tryd.ntmps21
  go_wp2_with (first | (go_at_call 29; refine HM.out.mono ?_; rintro e w' ⟨rfl, hw⟩; subst w') | (go_at_call 40; refine HF.out.mono ?_; rintro e w' ⟨rfl, hd, hk⟩; have HD := Lib.hid hd; have HK := Lib.hid hk; clear hd hk))
  go_ret
  exact ⟨rfl, HG.out.disk HD.out (by simp [noC]) HK.out, HK.out⟩
theorem free_pg (h : Pg w q g p s m B C W U) (n : Int) (h1 : -9223372036854775808 ≤ n) (h2 : n ≤ 9223372036854775807) : Calls Tryd.prog 20 #[ptr q, .int .i64 n] w fun e w' =>
    if 0 ≤ n ∧ U.getD n.toNat false = true then e = .returned (.int .i64 0) ∧ (∃ W', Pg w' q g p s m B C W' (U.set n.toNat false)) ∧ Kp (· = g) w w' else e = .returned (.int .i64 6) ∧ w' = w := by
  have HM := Lib.hid (made_pg h)
  have HH := Lib.hid (has_b h.hb h.hW (by have := h.wl; omega) n h1 h2)
  have c2 := h.c2
  by_cases hc : 0 ≤ n ∧ U.getD n.toNat false = true
  · simp only [if_pos hc]
    obtain ⟨k, rfl⟩ : ∃ k : Nat, n = (k : Int) := ⟨n.toNat, by omega⟩
    have hk : k < U.length := by
      by_cases hk : k < U.length
      · exact hk
      · have := hc.2
        rw [Int.toNat_natCast, List.getD_eq_getElem?_getD, List.getElem?_eq_none (by omega)] at this
        cases this
    have HR := Lib.hid (remove_b h.hb h.hW (by have := h.wl; omega) k hk)
    have HB : Hid ((decide (0 ≤ (k : Int)) && U.getD (k : Int).toNat false) = true) := Lib.hid (by rw [hc.2]; simp)
    rw [HB.out] at HH
    have HG := Lib.hid h
    clear h hc
    go_enter Tryd.func20, Tryd.ntmps20
    go_wp2_with (first | (go_at_call 29; refine HM.out.mono ?_; rintro e w' ⟨rfl, hw⟩; subst w') | (go_at_call 30; refine HH.out.mono ?_; rintro e w' ⟨rfl, hw⟩; subst w') | (go_at_call 39; refine HR.out.mono ?_; rintro e w' ⟨rfl, hb, hk2⟩; have HB2 := Lib.hid hb; have HK := Lib.hid hk2; clear hb hk2))
    go_ret
    exact ⟨rfl, ⟨_, HG.out.bits HB2.out (HG.out.hW.remove hk) (by simp) HK.out⟩, HK.out⟩
  · simp only [if_neg hc]
    have HB : Hid ((decide (0 ≤ n) && U.getD n.toNat false) = false) := Lib.hid (by
      by_cases h0 : 0 ≤ n
      · have : ¬ U.getD n.toNat false = true := fun e => hc ⟨h0, e⟩
        simp only [Bool.not_eq_true] at this
        rw [this]; simp
      · simp [h0])
    rw [HB.out] at HH
    clear h hc
    go_enter Tryd.func20, Tryd.ntmps20
    go_wp2_with (first | (go_at_call 29; refine HM.out.mono ?_; rintro e w' ⟨rfl, hw⟩; subst w') | (go_at_call 30; refine HH.out.mono ?_; rintro e w' ⟨rfl, hw⟩; subst w'))
    go_ret
    exact ⟨rfl, rfl⟩
end
end Go.Proofs.YtdfihpnmiiaflaaDoor
end
