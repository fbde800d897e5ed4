/- Texts of this claim, one behind the other: QAz, Qa, Qb. -/
import Derived.Test.YtdfihpnmiiaflaaDoorZ01
import Derived.Test.YtdfihpnmiiaflaaDoorZ06
import Derived.Lib.AppendZerosOnto
set_option linter.unusedSimpArgs false
set_option linter.unusedVariables false
section
/- append(row, make([]byte, n)...): noughts put behind a row of the call's own. -/
namespace Go.Proofs.YtdfihpnmiiaflaaDoor
set_option linter.unusedSimpArgs false
set_option linter.unusedVariables false
open Go.RowKit

theorem zc (n : Nat) : (Builtin.zeroCells (Value.int .u8 0).cells n).toList = cs8 (List.replicate n 0) := by
  apply List.ext_getElem?
  intro j
  simp only [Builtin.zeroCells, Value.cells, cs8, Array.toList_map, List.map_replicate, Array.toList_range]
  by_cases hj : j < n
  · simp [hj, B8, Nat.mod_one]
  · simp [hj]

theorem run_appz {w : World} {base : Nat} {v : Value} {xs : List UInt8} (hown : Ow w base v xs) (n : Nat) (hx : xs.length ≤ 8589934592) (hn : n ≤ 1024) (hbase : base ≤ w.heap.size) (ty : TypeId) :
    ∃ v' w', (Builtin.append_ #[30, 3] ty #[v, .int .i64 (n : Int)]).run Tryd.prog w = .ok v' w' ∧ Ow w' base v' (xs ++ List.replicate n 0) ∧ w.grownBy w' v.ownBlock := by
  obtain ⟨i, hi, hz0, hz1, hz2⟩ := info_parts info_u8
  have hml : (maxLen : Nat) = 9223372036854775807 := by simp [maxLen]
  have hlen : (cs8 xs ++ cs8 (List.replicate n 0)).length = (xs.length + n) * 1 := by rw [List.length_append, cs8_length, cs8_length, List.length_replicate, Nat.mul_one]
  have hgoal : ∀ (v' : Value) (w' : World), w'.ownsRow base 5 1 v' (xs.length + n) (cs8 xs ++ cs8 (List.replicate n 0)) → Ow w' base v' (xs ++ List.replicate n 0) := by
    intro v' w' h
    unfold Ow
    rw [cs8_append, List.length_append, List.length_replicate]
    exact h
  have grown : ∀ (old : Nat), old < xs.length + n → ∀ (row : Option Nat) (cells : Array Value),
      cells.toList = cs8 xs ++ cs8 (List.replicate n 0) ++ (Builtin.zeroCells (Value.int .u8 0).cells (grownCap w (xs.length + n) old 5 - (xs.length + n))).toList →
      (w.drew.alloc (.cells cells 5)).ownsRow base 5 1 (.slice (some ⟨w.heap.size, 0, none⟩) (xs.length + n) (grownCap w (xs.length + n) old 5)) (xs.length + n) (cs8 xs ++ cs8 (List.replicate n 0)) ∧
      w.grownBy (w.drew.alloc (.cells cells 5)) row := by
    intro old ho row cells hc
    have hge := grownCap_ge w (xs.length + n) old 5
    have hcm : grownCap w (xs.length + n) old 5 ≤ maxLen := grownCap_le_maxLen w (xs.length + n) old 5 (by omega)
    have hz := zc (grownCap w (xs.length + n) old 5 - (xs.length + n))
    refine ⟨⟨hlen, .inr ⟨w.heap.size, _, _, rfl, hbase, heap_alloc_new w.drew _, hge, hcm, ?_, ?_⟩⟩, ⟨rfl, rfl, rfl, by simp, fun k hk _ => Below.heap_alloc w.drew _ k hk⟩⟩
    · rw [← Array.length_toList, hc, List.length_append, hlen, hz, cs8_length, List.length_replicate]
      omega
    · rw [hc, ← hlen]
      exact List.take_left
  rcases Nat.eq_zero_or_pos n with h0 | h0
  · subst h0
    refine ⟨v, w, ?_, by simpa using hown, World.grownBy.refl w _⟩
    rcases hown.2 with ⟨rfl, _⟩ | ⟨g, cap, cur, rfl, _, _, hnc, _⟩
    · simp [Builtin.append_, run_underlying Tryd.underlying30, run_underlying Tryd.underlying3, sizeOf, typeInfo, hi, asInt, asIntOf, IntKind.wrap_i64]
    · simp [Builtin.append_, run_underlying Tryd.underlying30, run_underlying Tryd.underlying3, sizeOf, typeInfo, hi, hnc, storeCells, asInt, asIntOf, IntKind.wrap_i64]
  · rcases hown.2 with ⟨rfl, hl0⟩ | ⟨g, cap, cur, rfl, hbg, hg, hnc, hcm, hcs, htake⟩
    · have hx0 : xs = [] := List.eq_nil_of_length_eq_zero hl0
      subst hx0
      have hr := Lib.run_append_nil_zeros (P := Tryd.prog) w 30 3 ty 5 i (.int .u8 0) .i64 .i64 Tryd.underlying30 Tryd.underlying3 hi hz0 n h0 (by omega) (by omega) (by rw [hz2]; omega)
      have hgr := grown 0 (by simp; omega) (Value.ownBlock (.slice none 0 0)) (Builtin.zeroCells (Value.int .u8 0).cells n ++ Builtin.zeroCells (Value.int .u8 0).cells (grownCap w n 0 5 - n)) (by rw [Array.toList_append, zc n]; simp [cs8])
      simp only [List.length_nil, Nat.zero_add] at hgr
      exact ⟨_, _, hr, hgoal _ _ (by simpa using hgr.1), hgr.2⟩
    · by_cases hroom : xs.length + n ≤ cap
      · have hst := run_storeCells_at Tryd.prog g xs.length 5 (cs8 (List.replicate n 0)) 0 cur w hg (by rw [cs8_length, List.length_replicate]; omega) (cs8_one _)
        simp only [Nat.add_zero] at hst
        refine ⟨.slice (some ⟨g, 0, none⟩) (xs.length + n) cap, w.setRow g (cur.toList.take xs.length ++ cs8 (List.replicate n 0) ++ cur.toList.drop (xs.length + (cs8 (List.replicate n 0)).length)).toArray, ?_, hgoal _ _ ⟨hlen, .inr ⟨g, cap, _, rfl, hbg, setRow_heap w g cur _ 5 _ hg, hroom, hcm, ?_, ?_⟩⟩, ⟨rfl, rfl, rfl, by simp, fun k _ hk => setRow_other w g k _ (fun e => hk (by simp [Value.ownBlock, e]))⟩⟩
        · have hw : IntKind.i64.wrap (n : Int) = n := by rw [IntKind.wrap_i64]; omega
          have hneg : ¬ ((n : Int) < 0) := by omega
          have hn0 : n ≠ 0 := by omega
          have hb : ¬ (281474976710656 < (n : Int) * (i.bytes : Int)) := by rw [hz2]; omega
          have hzr : (zeroValue 5).run Tryd.prog w = .ok (.int .u8 0) w := by simp [zeroValue, Sem.run_bind, typeInfo, hi, hz0]
          have hzc := zc n
          simp [Builtin.append_, run_underlying Tryd.underlying30, run_underlying Tryd.underlying3, sizeOf, typeInfo, hi, hz1, hz2, asInt, asIntOf, hw, hneg, hn0, hroom, hzr, hzc, Addr.add_lit, hst]
          intro h
          exfalso
          omega
        · simp only [List.size_toArray, List.length_append, List.length_take, List.length_drop, Array.length_toList, cs8_length, List.length_replicate]
          omega
        · rw [Nat.mul_one] at htake
          rw [htake, ← hlen]
          exact List.take_left
      · have holds : ∀ j u, (cs8 xs)[j]? = some u → w.drew.cell? ((⟨g, 0, none⟩ : Addr).add j) = some u := World.ownsRow.cells hown (g := g) rfl
        have hf := run_firstCells_some (P := Tryd.prog) w.drew i.size xs.length ⟨g, 0, none⟩ xs.length cap (cs8 xs) (by rw [cs8_length, hz1, Nat.mul_one]) holds
        have hr := Lib.run_append_grow_zeros (P := Tryd.prog) w 30 3 ty 5 i (.int .u8 0) .i64 .i64 Tryd.underlying30 Tryd.underlying3 hi hz0 (some ⟨g, 0, none⟩) xs.length cap (cs8 xs) hf n h0 (by omega) (by omega) (by omega) (by rw [hz2]; omega) (growslice_fits (by omega) (by rw [hz2]; omega))
        have hgr := grown cap (by omega) (Value.ownBlock (.slice (some ⟨g, 0, none⟩) xs.length cap)) (((cs8 xs).toArray ++ Builtin.zeroCells (Value.int .u8 0).cells n ++ Builtin.zeroCells (Value.int .u8 0).cells (grownCap w (xs.length + n) cap 5 - (xs.length + n)))) (by rw [Array.toList_append, Array.toList_append, zc n])
        exact ⟨_, _, hr, hgoal _ _ hgr.1, hgr.2⟩
end Go.Proofs.YtdfihpnmiiaflaaDoor
end
section
/- The document's own SHA-512: its words, turns, padding. -/
namespace Go.Proofs.YtdfihpnmiiaflaaDoor
set_option maxRecDepth 8192
set_option linter.unusedSimpArgs false
set_option linter.unusedVariables false
open Go.RowKit

theorem rotr_bits (x : UInt64) (k : Nat) : bits .or .u64 ((x.toNat : Int) / 2 ^ k) (IntKind.u64.wrap ((x.toNat : Int) * 2 ^ (64 - k))) = ((rotr k x).toNat : Int) := by
  have hx : x.toNat < 18446744073709551616 := x.toNat_lt
  have e1 : IntKind.u64.wrap ((x.toNat : Int) * 2 ^ (64 - k)) = ((x.toNat * 2 ^ (64 - k) % 18446744073709551616 : Nat) : Int) := by
    rw [← wrapN]; simp
  have e2 : ((x.toNat : Int) / 2 ^ k) = ((x.toNat / 2 ^ k : Nat) : Int) := by simp
  have b1 : x.toNat * 2 ^ (64 - k) % 18446744073709551616 < 18446744073709551616 := Nat.mod_lt _ (by omega)
  have b2 : x.toNat / 2 ^ k < 18446744073709551616 := Nat.lt_of_le_of_lt (Nat.div_le_self _ _) hx
  have : x.toNat * 2 ^ (64 - k) % 18446744073709551616 ||| x.toNat / 2 ^ k < 2 ^ 64 := Nat.or_lt_two_pow (by omega) (by omega)
  rw [e1, e2, u64_or_nat _ _ b2 b1, Nat.or_comm, rotr, toNat_of this]
set_option maxHeartbeats 400000 in
theorem Qrot_any (x : UInt64) (k : Nat) (hk : 1 ≤ k) (hk2 : k ≤ 63) (w : World) : Calls Tryd.prog 71 #[.int .u64 (x.toNat : Int), .int .i64 (k : Int)] w fun e w' => e = .returned (.int .u64 ((rotr k x).toNat : Int)) ∧ w' = w := by
  have hx : x.toNat < 18446744073709551616 := x.toNat_lt
  have HB := Lib.hid (rotr_bits x k)
  go_enter Tryd.func71, Tryd.ntmps71
  go_wp2
  go_ret
  rw [HB.out]
  exact ⟨rfl, rfl⟩

set_option maxHeartbeats 1600000 in
theorem QK_any (w : World) : Calls Tryd.prog 70 #[] w fun e w' => e = .returned (.agg (cs64 KK).toArray) ∧ Below w.heap.size w w' := by
  have HL := Lib.hid (show (cs64 KK).length = 80 by decide +kernel)
  have hb : Below w.heap.size w (w.alloc (.cells z47.toArray 97)) := bl_alloc (bl0 w) _
  have HB := Lib.hid (Bk.new w z47 97)
  go_enter Tryd.func70, Tryd.ntmps70
  go_wp2_with (first | (refine wpList_alloc_z rfl 97 rfl z47 zero47 ?_) | (refine wpList_buildTo rfl 1 rfl 97 _ rfl (cs64 KK).toArray (by kernel_rfl) ?_) | (refine wpList_store_bk rfl 97 _ _ rfl w.heap.size rfl (cs64 KK) z47 rfl HB.out (by rw [HL.out]; exact info47) (by rw [HL.out]; exact len_z47) (cs64_one _) ?_))
  exact ret_bk rfl w.heap.size _ _ rfl rfl (HB.out.setRow _) Tryd.underlying97 rfl (by rw [HL.out]; exact info47) ⟨rfl, bl_setRow hb (Nat.le_refl _) _⟩
set_option maxHeartbeats 1600000 in
theorem QStart_any (w : World) : Calls Tryd.prog 63 #[] w fun e w' => e = .returned (.agg (cs64 startL).toArray) ∧ Below w.heap.size w w' := by
  have HL := Lib.hid (show (cs64 startL).length = 8 by decide +kernel)
  have hb : Below w.heap.size w (w.alloc (.cells z38.toArray 87)) := bl_alloc (bl0 w) _
  have HB := Lib.hid (Bk.new w z38 87)
  go_enter Tryd.func63, Tryd.ntmps63
  go_wp2_with (first | (refine wpList_alloc_z rfl 87 rfl z38 zero38 ?_) | (refine wpList_buildTo rfl 1 rfl 87 _ rfl (cs64 startL).toArray (by kernel_rfl) ?_) | (refine wpList_store_bk rfl 87 _ _ rfl w.heap.size rfl (cs64 startL) z38 rfl HB.out (by rw [HL.out]; exact info38) (by rw [HL.out]; exact len_z38) (cs64_one _) ?_))
  exact ret_bk rfl w.heap.size _ _ rfl rfl (HB.out.setRow _) Tryd.underlying87 rfl (by rw [HL.out]; exact info38) ⟨rfl, bl_setRow hb (Nat.le_refl _) _⟩
end Go.Proofs.YtdfihpnmiiaflaaDoor
end
section
/- The document's own SHA-512: lists joined, padding, words as bytes. -/
namespace Go.Proofs.YtdfihpnmiiaflaaDoor
set_option maxRecDepth 8192
set_option linter.unusedSimpArgs false
set_option linter.unusedVariables false
open Go.RowKit

theorem flatten_take {l : List (List UInt8)} {i : Nat} {x : List UInt8} (h : l[i]? = some x) : (l.take (i + 1)).flatten = (l.take i).flatten ++ x := by
  rw [List.take_add_one, h, List.flatten_append]; simp

set_option maxHeartbeats 800000 in
theorem Qjoin_any {B : Option Addr} {m c : Nat} {L : List (List UInt8)} (w : World) (hL : Rl w w.heap.size B m L) (hm : m ≤ 1073741824) (hT : L.flatten.length ≤ 1073741824) :
    Calls Tryd.prog 54 #[.slice B m c] w fun e w' => ∃ v, e = .returned v ∧ Ow w' w.heap.size v L.flatten ∧ Below w.heap.size w w' := by
  have HL := Lib.hid hL
  have HT := Lib.hid hT
  have hlen := hL.1
  have HLL := Lib.hid hlen
  clear hL hT hlen
  go_enter Tryd.func54, Tryd.ntmps54
  go_wp2
  go_loopw [3, 4] (fun v vi wr => ∃ i : Nat, i ≤ m ∧ vi = .int .i64 (i : Int) ∧ Hid (Ow wr w.heap.size v (L.take i).flatten) ∧ Hid (Below w.heap.size w wr)) (fun _ vi _ => m - (intOf vi).toNat)
  case atStart => exact ⟨0, by omega, rfl, Lib.hid (World.ownsRow_nil _ _ _ _), Lib.hid (bl0 w)⟩
  case round =>
    obtain ⟨i, hi, rfl, HO, HB⟩ := hrel
    by_cases hlt : i < m
    · have hil : i < L.length := by have := HLL.out; omega
      obtain ⟨ad, A, n, c1, rfl, hl, hc, hr, hA⟩ := HL.out.2 i _ (List.getElem?_eq_getElem hil)
      have HX := Lib.hid (flatten_take (List.getElem?_eq_getElem hil))
      have hxl : (L.take i).flatten.length + n ≤ 1073741824 := by
        have h1 : (L.take (i + 1)).flatten.length ≤ L.flatten.length := by
          conv => rhs; rw [← List.take_append_drop (i + 1) L, List.flatten_append, List.length_append]
          omega
        rw [HX.out, List.length_append, hr.len] at h1
        have := HT.out
        omega
      have hc' := (HB.out.cell (by rw [add_block]; exact hl)).trans hc
      have hr' := hr.below HB.out
      generalize L[i] = x at HX hr hr'
      have HR := Lib.hid hr'
      clear hr hr' hc hil
      go_wp2_with (at_builtin; refine wpList_app rfl _ _ rfl rfl HO.out rfl HR.out (by omega) HB.out.size ?_; intro v2 w2 ho2 hg2 hv2)
      have HO2 := Lib.hid ho2
      have HB2 := Lib.hid (HB.out.grown hg2 HB.out.size (fun k hk => (World.ownsRow.lt HO.out k hk).1))
      clear ho2 hg2 hv2
      go_roundw
      case rel => exact ⟨i + 1, by omega, by go_num, Lib.hid (by rw [HX.out]; exact HO2.out), HB2⟩
      case measure => simp [intOf]; omega
    · obtain rfl : i = m := by omega
      have ht : L.take i = L := List.take_of_length_le (by have := HLL.out; omega)
      go_wp2
      go_ret
      have ho := HO.out
      rw [ht] at ho
      exact ⟨_, rfl, ho, HB.out⟩

theorem wpList_exec' {ops : Array Oper} {rest : List Oper} {op : Oper} {a : Act} {w : World} {Q : Exit → Act → World → Prop} (hgd : op.guard = none) (v : Value) (hx : (execOp a.eval op).run Tryd.prog w = .ok (.value v) w)
    (h : wpList Tryd.prog ops Q rest (a.put op.dst v) w) : wpList Tryd.prog ops Q (op :: rest) a w :=
  wpList_plain hgd fun K hK => by
    unfold Oper.wp
    rw [hx]
    exact hK _ _ h
theorem exec_rem {o : Oper} {a : Act} {w : World} (x : Operand) (ho : o.op = .binOp .rem 3 x (.const (.int .i64 128)) 3) {N M : Nat} (hM : N % 128 = M) (hx : a.eval x = .int .i64 (N : Int)) : (execOp a.eval o).run Tryd.prog w = .ok (.value (.int .i64 (M : Int))) w := by
  subst hM
  unfold execOp
  simp only [ho, hx]
  simp [go_sem, Tryd.underlying3]
  exact Int.tmod_eq_emod_of_nonneg (by omega)
theorem exec_rem8 {o : Oper} {a : Act} {w : World} (x : Operand) (ho : o.op = .binOp .rem 3 x (.const (.int .i64 8)) 3) {N M : Nat} (hM : N % 8 = M) (hx : a.eval x = .int .i64 (N : Int)) : (execOp a.eval o).run Tryd.prog w = .ok (.value (.int .i64 (M : Int))) w := by
  subst hM
  unfold execOp
  simp only [ho, hx]
  simp [go_sem, Tryd.underlying3]
  exact Int.tmod_eq_emod_of_nonneg (by omega)
theorem exec_quo8 {o : Oper} {a : Act} {w : World} (x : Operand) (ho : o.op = .binOp .quo 3 x (.const (.int .i64 8)) 3) {N M : Nat} (hM : N / 8 = M) (hN : N ≤ 1024) (hx : a.eval x = .int .i64 (N : Int)) : (execOp a.eval o).run Tryd.prog w = .ok (.value (.int .i64 (M : Int))) w := by
  subst hM
  unfold execOp
  simp only [ho, hx]
  simp [go_sem, Tryd.underlying3]
  rw [IntKind.wrap_i64]
  omega
theorem exec_56 {o : Oper} {a : Act} {w : World} (y : Operand) (ho : o.op = .binOp .sub 3 (.const (.int .i64 56)) y 3) {R S : Nat} (hS : S + 8 * R = 56) (hy : a.eval y = .int .i64 (8 * (R : Int))) : (execOp a.eval o).run Tryd.prog w = .ok (.value (.int .i64 (S : Int))) w := by
  have hs : (S : Int) = 56 - 8 * (R : Int) := by omega
  have hk : a.eval (.const (.int .i64 56)) = .int .i64 56 := rfl
  unfold execOp
  simp only [ho, hy, hk, hs]
  simp [go_sem, Tryd.underlying3]
  rw [IntKind.wrap_i64]
  omega
theorem wpList_appz {w : World} {ops : Array Oper} {rest : List Oper} {o : Oper} {a : Act} {Q : Exit → Act → World → Prop} (hgd : o.guard = none) (s x : Operand)
    (ho : o.op = .call { callee := .builtin .append, args := #[s, x], argTypes := #[30, 3] })
    {base : Nat} {v : Value} {xs : List UInt8} (hs : a.eval s = v) (hown : Ow w base v xs) {n : Nat} (hx : a.eval x = .int .i64 (n : Int))
    (hb : xs.length ≤ 8589934592) (hn : n ≤ 1024) (hbase : base ≤ w.heap.size)
    (h : ∀ v' w', Ow w' base v' (xs ++ List.replicate n 0) → w.grownBy w' v.ownBlock → wpList Tryd.prog ops Q rest (a.put o.dst v') w') : wpList Tryd.prog ops Q (o :: rest) a w := by
  refine wpList_plain hgd fun K hK => ?_
  obtain ⟨v', w', hrun, h2, h3⟩ := run_appz hown n hb hn hbase o.type
  unfold Oper.wp execOp
  simp only [ho, resolve, invoke, builtin, Sem.run_bind, Sem.run_pure, Result.andThen_ok, List.map_toArray, List.map_cons, List.map_nil, hs, hx, hrun]
  exact hK _ _ (h v' w' h2 h3)
def sliceLen : Value → Nat
  | .slice _ n _ => n
  | _ => 0
set_option maxHeartbeats 1600000 in
theorem QPad_any {A : Option Addr} {n c : Nat} {l : List UInt8} (w : World) (hr : Rd w w.heap.size A n c l) (hn : n ≤ 1073741824) : Calls Tryd.prog 61 #[.slice A n c] w (Gives w (l ++ padB n)) := by
  have hl := hr.len
  have HL := Lib.hid hl
  have hq : (239 - n % 128) % 128 < 128 := Nat.mod_lt _ (by omega)
  have hqm : ∀ k, k ≤ (239 - n % 128) % 128 → ((n + 1 + k) % 128 = 112 ↔ k = (239 - n % 128) % 128) := fun k hk => by omega
  have HQM := Lib.hid hqm
  have HP := Lib.hid (show padB n = 128 :: List.replicate ((239 - n % 128) % 128) 0 ++ wordB 8 (UInt64.ofNat (n * 8 / 18446744073709551616)) ++ wordB 8 (UInt64.ofNat (n * 8 % 18446744073709551616)) from rfl)
  generalize (239 - n % 128) % 128 = q at hq hqm HQM HP
  have HR := Lib.hid hr
  clear hr hqm hl
  go_enter Tryd.func61, Tryd.ntmps61
  go_wp2_with (first | (at_builtin; refine wpList_app rfl _ _ rfl rfl (Ow.lit w #[] [] rfl (by simp)) rfl (HR.out.below ((Below.refl _ _).alloc (Nat.le_refl _) _)) (by simp; omega) (by simp) ?_; intro v2 w2 ho2 hg2 hv2; have HO2 := Lib.hid ho2; have HB2 := Lib.hid (((Below.refl _ _).alloc (Nat.le_refl _) _).grown hg2 (by simp) (fun g hg => (World.ownsRow.lt (Ow.lit w #[] [] rfl (by simp)) g hg).1) : Below w.heap.size w w2); clear ho2 hg2 hv2) | (at_builtin; refine wpList_app rfl _ _ rfl rfl (HO2.out.alloc _) rfl (Rd.lit1 w2 128 (by omega) (by omega)) (by simp; have := HL.out; omega) (by simp; have := HB2.out.size; omega) ?_; intro v3 w3 ho3 hg3 hv3; have HO3 := Lib.hid ho3; have HB3 := Lib.hid ((bl_alloc HB2.out _).grown hg3 (by simp; have := HB2.out.size; omega) (fun g hg => (World.ownsRow.lt HO2.out g hg).1)); clear ho3 hg3 hv3 HO2 HB2))
  have HN := Lib.hid hn
  have hnI : (n : Int) ≤ 1073741824 := by omega
  have HQ := Lib.hid hq
  have hqI : (q : Int) < 128 := by omega
  clear hn hq
  go_loopw [3] (fun v wr => ∃ k : Nat, k ≤ q ∧ Hid (Ow wr w.heap.size v (l ++ 128 :: List.replicate k 0)) ∧ Hid (Below w.heap.size w wr)) (fun v _ => q + n + 1 - sliceLen v)
  case atStart => exact ⟨0, by omega, Lib.hid (by have := HO3.out; rw [List.nil_append] at this; exact this), HB3⟩
  case round =>
    clear HO3 HB3
    obtain ⟨k, hk, HO, HB⟩ := hrel
    have hlk : (l ++ (128 : UInt8) :: List.replicate k 0).length = n + 1 + k := by simp; have := HL.out; omega
    obtain ⟨A3, c3, rfl, hr3⟩ := HO.out.rdN hlk
    have HL3 := Lib.hid hlk
    have HR3 := Lib.hid hr3
    clear hr3 hlk
    have HBW := Lib.hid HB.out.size
    obtain ⟨N3, hN3⟩ : ∃ N, N = n + 1 + k := ⟨_, rfl⟩
    rw [← hN3] at HR3 HL3 HO ⊢
    have HN3 := Lib.hid hN3
    obtain ⟨M3, hM3⟩ : ∃ M, N3 % 128 = M := ⟨_, rfl⟩
    have hm3 := HQM.out k hk
    rw [← hN3, hM3] at hm3
    have HM3 := Lib.hid hM3
    clear hN3 hM3
    by_cases hkq : k = q
    · have hM : M3 = 112 := hm3.2 hkq
      subst hM
      clear hm3
      subst hkq
      have hb1 : (l ++ (128 : UInt8) :: List.replicate k 0).length ≤ 8589934592 := by have := HL3.out; have := HN3.out; have := HN.out; have := HQ.out; omega
      have HB1 := Lib.hid hb1
      clear hb1
      go_wp2_with (first | (refine wpList_exec' rfl _ (exec_rem _ rfl HM3.out rfl) ?_) | (refine wpList_appz rfl _ _ rfl rfl HO.out (n := 8) rfl HB1.out (by omega) HBW.out ?_; intro v4 w4 ho4 hg4))
      have HO4 := Lib.hid ho4
      have HB4 := Lib.hid (HB.out.grown hg4 HBW.out (fun g hg => (World.ownsRow.lt HO.out g hg).1))
      have HBW4 := Lib.hid HB4.out.size
      clear ho4 hg4
      obtain ⟨X, hX⟩ : ∃ X : UInt64, X.toNat = n * 8 := ⟨UInt64.ofNat (n * 8), toNat_of (by have := HN.out; omega)⟩
      have HPX := Lib.hid (show l ++ padB n = (l ++ (128 : UInt8) :: List.replicate k 0) ++ List.replicate 8 0 ++ wordB 8 X by
        have h0 : n * 8 / 18446744073709551616 = 0 := by have := HN.out; omega
        have h1 : n * 8 % 18446744073709551616 = n * 8 := by have := HN.out; omega
        have h2 : UInt64.ofNat (n * 8) = X := by rw [← hX]; simp
        have h3 : wordB 8 (UInt64.ofNat 0) = List.replicate 8 0 := by decide
        rw [HP.out, h0, h1, h2, h3]
        simp)
      have hY : ((l ++ (128 : UInt8) :: List.replicate k 0) ++ List.replicate 8 0).length ≤ 1073742000 := by rw [List.length_append, HL3.out, List.length_replicate]; have := HN3.out; have := HN.out; have := HQ.out; omega
      generalize hYY : (l ++ (128 : UInt8) :: List.replicate k 0) ++ List.replicate 8 0 = Y at *
      have HY := Lib.hid hY
      have hXI : (X.toNat : Int) = (n : Int) * 8 := by omega
      rw [← hXI]
      have hXlt : X.toNat < 18446744073709551616 := X.toNat_lt
      clear hXI hX hY hYY HB1 HO HB HL3 HR3 HN3
      go_loopw [3, 5] (fun v vi wr => ∃ t j : Nat, t + j = 8 ∧ vi = .int .i64 ((j : Int) - 1) ∧ Hid (Ow wr w.heap.size v (Y ++ wordB t X)) ∧ Hid (Below w.heap.size w wr)) (fun _ vi _ => (intOf vi + 1).toNat)
      case atStart => exact ⟨0, 8, rfl, rfl, Lib.hid (by simpa [wordB] using HO4.out), Lib.hid HB4.out⟩
      case round =>
        clear HO4 HB4
        obtain ⟨t, j, htj, rfl, HO, HB⟩ := hrel
        have HBS := Lib.hid HB.out.size
        rcases Nat.eq_zero_or_pos j with rfl | hj
        · obtain rfl : t = 8 := by omega
          go_wp2
          go_ret
          have ho := HO.out
          rw [← HPX.out] at ho
          exact Gives.mk ho HB.out
        · obtain ⟨i, rfl⟩ : ∃ i, j = i + 1 := ⟨j - 1, by omega⟩
          rw [show (((i + 1 : Nat) : Int) - 1) = (i : Int) by omega]
          have hx0 := Lib.hid (show 0 ≤ (X.toNat : Int) / 2 ^ (8 * i) % 256 from Int.emod_nonneg _ (by omega))
          have hx1 := Lib.hid (show (X.toNat : Int) / 2 ^ (8 * i) % 256 < 256 from Int.emod_lt_of_pos _ (by omega))
          have hstep : Hid (Y ++ wordB t X ++ [UInt8.ofNat ((X.toNat : Int) / 2 ^ (8 * i) % 256).toNat] = Y ++ wordB (t + 1) X) := by
            rw [byte_at, wordB, List.append_assoc, show 56 - 8 * t = 8 * i by omega]
            exact Lib.hid rfl
          have hw := Lib.hid (show (Y ++ wordB t X).length + 1 ≤ 140737488355328 by rw [List.length_append, wordB_length]; have := HY.out; omega)
          go_wp2_with (at_builtin; go_loud (refine wpList_app rfl _ _ rfl rfl (HO.out.alloc _) rfl (Rd.lit1 wr _ hx0.out hx1.out) hw.out (Nat.le_trans HBS.out (by simp)) ?_; intro v5 w5 ho5 hg5 hv5))
          rw [hstep.out] at ho5
          exact ⟨⟨t + 1, i, by omega, rfl, Lib.hid ho5, Lib.hid ((bl_alloc HB.out (.cells #[.int .u8 ((X.toNat : Int) / 2 ^ (8 * i) % 256)] 5)).grown hg5 (Nat.le_trans HBS.out (by simp)) (fun g hg => (World.ownsRow.lt HO.out g hg).1))⟩, by simp [intOf]⟩
    · have hM : (M3 : Int) ≠ 112 := fun e => hkq (hm3.1 (by omega))
      have hb1 : (l ++ (128 : UInt8) :: List.replicate k 0).length + 1 ≤ 140737488355328 := by have := HL3.out; have := HN3.out; have := HN.out; have := HQ.out; omega
      have HB1 := Lib.hid hb1
      have HZ := Lib.hid (show (l ++ (128 : UInt8) :: List.replicate k 0) ++ [UInt8.ofNat (0 : Int).toNat] = l ++ 128 :: List.replicate (k + 1) 0 by rw [List.replicate_succ']; simp)
      clear hm3 hb1
      go_wp2_with (first | (refine wpList_exec' rfl _ (exec_rem _ rfl HM3.out rfl) ?_) | (at_builtin; go_loud (refine wpList_app rfl _ _ rfl rfl (HO.out.alloc _) rfl (Rd.lit1 wr 0 (by omega) (by omega)) HB1.out (Nat.le_trans HBW.out (by simp)) ?_; intro v4 w4 ho4 hg4 hv4)))
      rw [HZ.out] at ho4
      have HO4 := Lib.hid ho4
      have HB4 := Lib.hid ((bl_alloc HB.out (.cells #[.int .u8 0] 5)).grown hg4 (Nat.le_trans HBW.out (by simp)) (fun g hg => (World.ownsRow.lt HO.out g hg).1))
      obtain ⟨A4, c4, e4, _⟩ := ho4.rd
      clear ho4 hg4 hv4
      go_roundw
      case rel => exact ⟨k + 1, by omega, HO4, HB4⟩
      case measure =>
        subst e4
        have h3 := HN3.out
        have h4 : (l ++ (128 : UInt8) :: List.replicate (k + 1) 0).length = N3 + 1 := by rw [← HZ.out, List.length_append, HL3.out]; rfl
        rw [h4]
        simp [sliceLen]
        omega

theorem signs_at64 (st : List UInt64) (t : Nat) (hs : st.length = 8) (ht : t < 64) : ∃ x, st[t / 8]? = some x ∧ (signsOf st)[t]? = some (UInt8.ofNat (x.toNat / 2 ^ (56 - 8 * (t % 8)) % 256)) := by
  have hwb : ∀ (x : UInt64) (n k : Nat), k < n → (wordB n x)[k]? = some (UInt8.ofNat (x.toNat / 2 ^ (56 - 8 * k) % 256)) := by
    intro x n
    induction n with
    | zero => intro k hk; omega
    | succ n ih =>
      intro k hk
      rw [wordB, List.getElem?_append, wordB_length]
      by_cases h : k < n
      · rw [if_pos h, ih k h]
      · obtain rfl : k = n := by omega
        rw [if_neg h, Nat.sub_self]
        rfl
  have key : ∀ (l : List UInt64) (t : Nat), t < 8 * l.length → ∃ x, l[t / 8]? = some x ∧ (signsOf l)[t]? = some (UInt8.ofNat (x.toNat / 2 ^ (56 - 8 * (t % 8)) % 256)) := by
    intro l
    induction l with
    | nil => intro t ht; simp at ht
    | cons a r ih =>
      intro t ht
      rw [show signsOf (a :: r) = wordB 8 a ++ signsOf r by simp [signsOf], List.getElem?_append, wordB_length]
      by_cases h : t < 8
      · rw [if_pos h, show t / 8 = 0 by omega, show t % 8 = t by omega]
        exact ⟨a, rfl, hwb a 8 t h⟩
      · obtain ⟨x, h1, h2⟩ := ih (t - 8) (by simp only [List.length_cons] at ht; omega)
        rw [if_neg h, show t / 8 = (t - 8) / 8 + 1 by omega, show t % 8 = (t - 8) % 8 by omega]
        exact ⟨x, h1, h2⟩
  exact key st t (by omega)

/-- The first t bytes of a sum, noughts behind them. -/
def sgZ (st : List UInt64) (t : Nat) : List Value := cs8 ((signsOf st).take t ++ List.replicate (64 - t) 0)
theorem sgZ_length (st : List UInt64) (t : Nat) (hs : st.length = 8) (ht : t ≤ 64) : (sgZ st t).length = 64 := by
  have := signs_length st
  simp [sgZ, cs8_length, List.length_take]; omega
theorem sgZ_set (st : List UInt64) (t : Nat) (hs : st.length = 8) (ht : t < 64) (b : UInt8) (hb : (signsOf st)[t]? = some b) : (sgZ st t).set t (B8 b) = sgZ st (t + 1) := by
  have hl := signs_length st
  have h1 : ((signsOf st).take t).length = t := by rw [List.length_take]; omega
  unfold sgZ cs8
  have e := List.set_append_right (s := (signsOf st).take t) (t := List.replicate (64 - t) 0) (i := t) (x := b) (by omega)
  rw [← List.map_set, e, h1, Nat.sub_self, show 64 - t = (64 - (t + 1)) + 1 from by omega, List.replicate_succ, List.set_cons_zero, List.take_add_one, hb, List.append_assoc]
  rfl
theorem sgZ_all (st : List UInt64) (hs : st.length = 8) : sgZ st 64 = cs8 (signsOf st) := by
  have hl := signs_length st
  unfold sgZ
  rw [List.take_of_length_le (by omega), Nat.sub_self, List.replicate_zero, List.append_nil]
set_option maxHeartbeats 1600000 in
theorem Qbytes_any (st : List UInt64) (hs : st.length = 8) (w : World) : Calls Tryd.prog 51 #[.agg (cs64 st).toArray] w fun e w' => e = .returned (.agg (cs8 (signsOf st)).toArray) ∧ Below w.heap.size w w' := by
  have HL := Lib.hid (show (cs64 st).length = 8 by rw [cs64_length, hs])
  have HSA := Lib.hid (fun t => signs_at64 st t hs)
  have HST := Lib.hid (fun t => sgZ_set st t hs)
  have HSL := Lib.hid (fun t => sgZ_length st t hs)
  have HALL := Lib.hid (sgZ_all st hs)
  have HS8 := Lib.hid (show (cs8 (signsOf st)).length = 64 by rw [cs8_length, signs_length, hs])
  go_enter Tryd.func51, Tryd.ntmps51
  go_wp2_with (refine wpList_alloc_z rfl 85 rfl z33 zero33 ?_)
  go_loopw [4] (fun vi wr => ∃ t : Nat, t ≤ 64 ∧ vi = .int .i64 (t : Int) ∧ Bk wr w.heap.size (cs64 st) ∧ Bk wr (w.heap.size + 1) z33 ∧ Bk wr (w.heap.size + 1 + 1) (sgZ st t) ∧ Below w.heap.size w wr) (fun vi _ => 64 - (intOf vi).toNat)
  case atStart =>
    refine ⟨0, by omega, rfl, ?_, ?_, ?_, ?_⟩
    · exact ((Bk.new w (cs64 st) 87).old _).old _
    · simpa using (Bk.new (w.alloc (.cells (cs64 st).toArray 87)) z33 85).old _
    · have := Bk.new ((w.alloc (.cells (cs64 st).toArray 87)).alloc (.cells z33.toArray 85)) z33 85
      simpa [sgZ, z33] using this
    · exact bl_alloc (bl_alloc (bl_alloc (bl0 w) _) _) _
  case round =>
    obtain ⟨t, ht, rfl, hk0, hk1, hk2, hb⟩ := hrel
    have HB0 := Lib.hid hk0
    have HB1 := Lib.hid hk1
    have HK := Lib.hid hk2
    clear hk0 hk1 hk2
    by_cases hlt : t < 64
    · obtain ⟨x, hx1, hx2⟩ := HSA.out t hlt
      have HX := Lib.hid (HST.out t hlt _ hx2)
      have hq8 : t / 8 < 8 := by omega
      obtain ⟨q8, hq⟩ : ∃ q, t / 8 = q := ⟨_, rfl⟩
      obtain ⟨r8, hr⟩ : ∃ r, t % 8 = r := ⟨_, rfl⟩
      rw [hq] at hx1 hq8
      rw [hr] at hx2 HX
      obtain ⟨S, hS⟩ : ∃ S, S = 56 - 8 * r8 := ⟨_, rfl⟩
      rw [← hS] at HX
      have hSR : S + 8 * r8 = 56 := by omega
      have HSR := Lib.hid hSR
      have HQ8 := Lib.hid hq
      have HR8 := Lib.hid hr
      have hS63 : S ≤ 56 := by omega
      have hr8 : (r8 : Int) ≤ 7 := by omega
      have hc0 := HB0.out.cell (k := q8) (v := B64 x) (by rw [cs64, List.getElem?_map, hx1]; rfl)
      have hf2 := HK.out.frozen t
      have hc2 := HK.out.cell (k := t) (List.getElem?_eq_getElem (by rw [HSL.out t ht]; exact hlt))
      have hxx : x.toNat < 18446744073709551616 := x.toNat_lt
      unfold B64 at hc0
      clear hx1 hx2 hq hr hS hSR
      go_wp2_with (first | (refine wpList_exec' rfl _ (exec_quo8 _ rfl HQ8.out (by omega) rfl) ?_) | (refine wpList_exec' rfl _ (exec_rem8 _ rfl HR8.out rfl) ?_) | (refine wpList_exec' rfl _ (exec_56 _ rfl HSR.out rfl) ?_))
      have hB : B8 (UInt8.ofNat (x.toNat / 2 ^ S % 256)) = .int .u8 ((x.toNat : Int) / 2 ^ S % 256) := by
        rw [B8, show (UInt8.ofNat (x.toNat / 2 ^ S % 256)).toNat = x.toNat / 2 ^ S % 256 from by simp]
        simp
      rw [hB] at HX
      refine ⟨⟨t + 1, by omega, by go_num, HB0.out.setCell_ne (by omega) _ _, HB1.out.setCell_ne (by omega) _ _, ?_, bl_setCell hb (by omega) _ _⟩, by simp [intOf]; omega⟩
      rw [← HX.out]
      exact HK.out.setCell _ _
    · obtain rfl : t = 64 := by omega
      have hk := HK.out
      rw [HALL.out] at hk
      have HK6 := Lib.hid hk
      clear hk HK
      go_wp2_with (first | (refine wpList_load_at rfl 85 _ rfl ⟨w.heap.size + 1 + 1, 0, none⟩ rfl (cs8 (signsOf st)) _ HK6.out.at_ Tryd.underlying85 rfl (by rw [HS8.out]; exact info33) ?_) | (refine wpList_store_bk rfl 85 _ _ rfl (w.heap.size + 1) rfl (cs8 (signsOf st)) z33 rfl HB1.out (by rw [HS8.out]; exact info33) (by rw [HS8.out]; exact len_z33) (cs8_all _) ?_))
      exact ret_bk rfl (w.heap.size + 1) _ _ rfl rfl (HB1.out.setRow _) Tryd.underlying85 rfl (by rw [HS8.out]; exact info33) ⟨rfl, bl_setRow hb (by omega) _⟩
end Go.Proofs.YtdfihpnmiiaflaaDoor
end
