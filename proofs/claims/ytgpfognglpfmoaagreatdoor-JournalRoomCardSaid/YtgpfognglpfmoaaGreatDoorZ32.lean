/- The document's own SHA-512: lists joined, padding, words as bytes. -/
import Derived.Test.YtgpfognglpfmoaaGreatDoorZ31
set_option linter.unusedSimpArgs false
set_option linter.unusedVariables false
namespace Go.Proofs.YtgpfognglpfmoaaGreatDoor
set_option maxRecDepth 8192
set_option linter.unusedSimpArgs false
set_option linter.unusedVariables false
open Go.RowKit

theorem flatten_take {l : List (List UInt8)} {i : Nat} {x : List UInt8} (h : l[i]? = some x) : (l.take (i + 1)).flatten = (l.take i).flatten ++ x := by
  rw [List.take_add_one, h, List.flatten_append]; simp

set_option maxHeartbeats 800000 in
theorem Qjoin_any {B : Option Addr} {m c : Nat} {L : List (List UInt8)} (w : World) (hL : Rl w w.heap.size B m L) (hm : m ≤ 1073741824) (hT : L.flatten.length ≤ 1073741824) :
    Calls Tryz.prog 133 #[.slice B m c] w fun e w' => ∃ v, e = .returned v ∧ Ow w' w.heap.size v L.flatten ∧ Below w.heap.size w w' := by
  have HL := Lib.hid hL
  have HT := Lib.hid hT
  have hlen := hL.1
  have HLL := Lib.hid hlen
  clear hL hT hlen
  go_enter Tryz.func133, Tryz.ntmps133
  go_wp2
  go_loopw [3, 4] (fun v vi wr => ∃ i : Nat, i ≤ m ∧ vi = .int .i64 (i : Int) ∧ Hid (Ow wr w.heap.size v (L.take i).flatten) ∧ Hid (Below w.heap.size w wr)) (fun _ vi _ => m - (intOf vi).toNat)
  case atStart => exact ⟨0, by omega, rfl, Lib.hid (World.ownsRow_nil _ _ _ _), Lib.hid (bl0 w)⟩
  case round =>
    obtain ⟨i, hi, rfl, HO, HB⟩ := hrel
    by_cases hlt : i < m
    · have hil : i < L.length := by have := HLL.out; omega
      obtain ⟨ad, A, n, c1, rfl, hl, hc, hr, hA⟩ := HL.out.2 i _ (List.getElem?_eq_getElem hil)
      have HX := Lib.hid (flatten_take (List.getElem?_eq_getElem hil))
      have hxl : (L.take i).flatten.length + n ≤ 1073741824 := by
        have h1 : (L.take (i + 1)).flatten.length ≤ L.flatten.length := by
          conv => rhs; rw [← List.take_append_drop (i + 1) L, List.flatten_append, List.length_append]
          omega
        rw [HX.out, List.length_append, hr.len] at h1
        have := HT.out
        omega
      have hc' := (HB.out.cell (by rw [add_block]; exact hl)).trans hc
      have hr' := hr.below HB.out
      generalize L[i] = x at HX hr hr'
      have HR := Lib.hid hr'
      clear hr hr' hc hil
      go_wp2_with (at_builtin; refine wpList_app rfl _ _ rfl rfl HO.out rfl HR.out (by omega) HB.out.size ?_; intro v2 w2 ho2 hg2 hv2)
      have HO2 := Lib.hid ho2
      have HB2 := Lib.hid (HB.out.grown hg2 HB.out.size (fun k hk => (World.ownsRow.lt HO.out k hk).1))
      clear ho2 hg2 hv2
      go_roundw
      case rel => exact ⟨i + 1, by omega, by go_num, Lib.hid (by rw [HX.out]; exact HO2.out), HB2⟩
      case measure => simp [intOf]; omega
    · obtain rfl : i = m := by omega
      have ht : L.take i = L := List.take_of_length_le (by have := HLL.out; omega)
      go_wp2
      go_ret
      have ho := HO.out
      rw [ht] at ho
      exact ⟨_, rfl, ho, HB.out⟩

theorem wpList_exec' {ops : Array Oper} {rest : List Oper} {op : Oper} {a : Act} {w : World} {Q : Exit → Act → World → Prop} (hgd : op.guard = none) (v : Value) (hx : (execOp a.eval op).run Tryz.prog w = .ok (.value v) w)
    (h : wpList Tryz.prog ops Q rest (a.put op.dst v) w) : wpList Tryz.prog ops Q (op :: rest) a w :=
  wpList_plain hgd fun K hK => by
    unfold Oper.wp
    rw [hx]
    exact hK _ _ h
theorem exec_rem {o : Oper} {a : Act} {w : World} (x : Operand) (ho : o.op = .binOp .rem 3 x (.const (.int .i64 128)) 3) {N M : Nat} (hM : N % 128 = M) (hx : a.eval x = .int .i64 (N : Int)) : (execOp a.eval o).run Tryz.prog w = .ok (.value (.int .i64 (M : Int))) w := by
  subst hM
  unfold execOp
  simp only [ho, hx]
  simp [go_sem, Tryz.underlying3]
  exact Int.tmod_eq_emod_of_nonneg (by omega)
theorem exec_rem8 {o : Oper} {a : Act} {w : World} (x : Operand) (ho : o.op = .binOp .rem 3 x (.const (.int .i64 8)) 3) {N M : Nat} (hM : N % 8 = M) (hx : a.eval x = .int .i64 (N : Int)) : (execOp a.eval o).run Tryz.prog w = .ok (.value (.int .i64 (M : Int))) w := by
  subst hM
  unfold execOp
  simp only [ho, hx]
  simp [go_sem, Tryz.underlying3]
  exact Int.tmod_eq_emod_of_nonneg (by omega)
theorem exec_quo8 {o : Oper} {a : Act} {w : World} (x : Operand) (ho : o.op = .binOp .quo 3 x (.const (.int .i64 8)) 3) {N M : Nat} (hM : N / 8 = M) (hN : N ≤ 1024) (hx : a.eval x = .int .i64 (N : Int)) : (execOp a.eval o).run Tryz.prog w = .ok (.value (.int .i64 (M : Int))) w := by
  subst hM
  unfold execOp
  simp only [ho, hx]
  simp [go_sem, Tryz.underlying3]
  rw [IntKind.wrap_i64]
  omega
theorem exec_56 {o : Oper} {a : Act} {w : World} (y : Operand) (ho : o.op = .binOp .sub 3 (.const (.int .i64 56)) y 3) {R S : Nat} (hS : S + 8 * R = 56) (hy : a.eval y = .int .i64 (8 * (R : Int))) : (execOp a.eval o).run Tryz.prog w = .ok (.value (.int .i64 (S : Int))) w := by
  have hs : (S : Int) = 56 - 8 * (R : Int) := by omega
  have hk : a.eval (.const (.int .i64 56)) = .int .i64 56 := rfl
  unfold execOp
  simp only [ho, hy, hk, hs]
  simp [go_sem, Tryz.underlying3]
  rw [IntKind.wrap_i64]
  omega
theorem wpList_appz {w : World} {ops : Array Oper} {rest : List Oper} {o : Oper} {a : Act} {Q : Exit → Act → World → Prop} (hgd : o.guard = none) (s x : Operand)
    (ho : o.op = .call { callee := .builtin .append, args := #[s, x], argTypes := #[31, 3] })
    {base : Nat} {v : Value} {xs : List UInt8} (hs : a.eval s = v) (hown : Ow w base v xs) {n : Nat} (hx : a.eval x = .int .i64 (n : Int))
    (hb : xs.length ≤ 8589934592) (hn : n ≤ 64) (hbase : base ≤ w.heap.size)
    (h : ∀ v' w', Ow w' base v' (xs ++ List.replicate n 0) → w.grownBy w' v.ownBlock → wpList Tryz.prog ops Q rest (a.put o.dst v') w') : wpList Tryz.prog ops Q (o :: rest) a w := by
  refine wpList_plain hgd fun K hK => ?_
  obtain ⟨v', w', hrun, h2, h3⟩ := run_appz hown n hb hn hbase o.type
  unfold Oper.wp execOp
  simp only [ho, resolve, invoke, builtin, Sem.run_bind, Sem.run_pure, Result.andThen_ok, List.map_toArray, List.map_cons, List.map_nil, hs, hx, hrun]
  exact hK _ _ (h v' w' h2 h3)
def sliceLen : Value → Nat
  | .slice _ n _ => n
  | _ => 0
set_option maxHeartbeats 1600000 in
theorem QPad_any {A : Option Addr} {n c : Nat} {l : List UInt8} (w : World) (hr : Rd w w.heap.size A n c l) (hn : n ≤ 1073741824) : Calls Tryz.prog 151 #[.slice A n c] w (Gives w (l ++ padB n)) := by
  have hl := hr.len
  have HL := Lib.hid hl
  have hq : (239 - n % 128) % 128 < 128 := Nat.mod_lt _ (by omega)
  have hqm : ∀ k, k ≤ (239 - n % 128) % 128 → ((n + 1 + k) % 128 = 112 ↔ k = (239 - n % 128) % 128) := fun k hk => by omega
  have HQM := Lib.hid hqm
  have HP := Lib.hid (show padB n = 128 :: List.replicate ((239 - n % 128) % 128) 0 ++ wordB 8 (UInt64.ofNat (n * 8 / 18446744073709551616)) ++ wordB 8 (UInt64.ofNat (n * 8 % 18446744073709551616)) from rfl)
  generalize (239 - n % 128) % 128 = q at hq hqm HQM HP
  have HR := Lib.hid hr
  clear hr hqm hl
  go_enter Tryz.func151, Tryz.ntmps151
  go_wp2_with (first | (at_builtin; refine wpList_app rfl _ _ rfl rfl (Ow.lit w #[] [] rfl (by simp)) rfl (HR.out.below ((Below.refl _ _).alloc (Nat.le_refl _) _)) (by simp; omega) (by simp) ?_; intro v2 w2 ho2 hg2 hv2; have HO2 := Lib.hid ho2; have HB2 := Lib.hid (((Below.refl _ _).alloc (Nat.le_refl _) _).grown hg2 (by simp) (fun g hg => (World.ownsRow.lt (Ow.lit w #[] [] rfl (by simp)) g hg).1) : Below w.heap.size w w2); clear ho2 hg2 hv2) | (at_builtin; refine wpList_app rfl _ _ rfl rfl (HO2.out.alloc _) rfl (Rd.lit1 w2 128 (by omega) (by omega)) (by simp; have := HL.out; omega) (by simp; have := HB2.out.size; omega) ?_; intro v3 w3 ho3 hg3 hv3; have HO3 := Lib.hid ho3; have HB3 := Lib.hid ((bl_alloc HB2.out _).grown hg3 (by simp; have := HB2.out.size; omega) (fun g hg => (World.ownsRow.lt HO2.out g hg).1)); clear ho3 hg3 hv3 HO2 HB2))
  have HN := Lib.hid hn
  have hnI : (n : Int) ≤ 1073741824 := by omega
  have HQ := Lib.hid hq
  have hqI : (q : Int) < 128 := by omega
  clear hn hq
  go_loopw [3] (fun v wr => ∃ k : Nat, k ≤ q ∧ Hid (Ow wr w.heap.size v (l ++ 128 :: List.replicate k 0)) ∧ Hid (Below w.heap.size w wr)) (fun v _ => q + n + 1 - sliceLen v)
  case atStart => exact ⟨0, by omega, Lib.hid (by have := HO3.out; rw [List.nil_append] at this; exact this), HB3⟩
  case round =>
    clear HO3 HB3
    obtain ⟨k, hk, HO, HB⟩ := hrel
    have hlk : (l ++ (128 : UInt8) :: List.replicate k 0).length = n + 1 + k := by simp; have := HL.out; omega
    obtain ⟨A3, c3, rfl, hr3⟩ := HO.out.rdN hlk
    have HL3 := Lib.hid hlk
    have HR3 := Lib.hid hr3
    clear hr3 hlk
    have HBW := Lib.hid HB.out.size
    obtain ⟨N3, hN3⟩ : ∃ N, N = n + 1 + k := ⟨_, rfl⟩
    rw [← hN3] at HR3 HL3 HO ⊢
    have HN3 := Lib.hid hN3
    obtain ⟨M3, hM3⟩ : ∃ M, N3 % 128 = M := ⟨_, rfl⟩
    have hm3 := HQM.out k hk
    rw [← hN3, hM3] at hm3
    have HM3 := Lib.hid hM3
    clear hN3 hM3
    by_cases hkq : k = q
    · have hM : M3 = 112 := hm3.2 hkq
      subst hM
      clear hm3
      subst hkq
      have hb1 : (l ++ (128 : UInt8) :: List.replicate k 0).length ≤ 8589934592 := by have := HL3.out; have := HN3.out; have := HN.out; have := HQ.out; omega
      have HB1 := Lib.hid hb1
      clear hb1
      go_wp2_with (first | (refine wpList_exec' rfl _ (exec_rem _ rfl HM3.out rfl) ?_) | (refine wpList_appz rfl _ _ rfl rfl HO.out (n := 8) rfl HB1.out (by omega) HBW.out ?_; intro v4 w4 ho4 hg4))
      have HO4 := Lib.hid ho4
      have HB4 := Lib.hid (HB.out.grown hg4 HBW.out (fun g hg => (World.ownsRow.lt HO.out g hg).1))
      have HBW4 := Lib.hid HB4.out.size
      clear ho4 hg4
      obtain ⟨X, hX⟩ : ∃ X : UInt64, X.toNat = n * 8 := ⟨UInt64.ofNat (n * 8), toNat_of (by have := HN.out; omega)⟩
      have HPX := Lib.hid (show l ++ padB n = (l ++ (128 : UInt8) :: List.replicate k 0) ++ List.replicate 8 0 ++ wordB 8 X by
        have h0 : n * 8 / 18446744073709551616 = 0 := by have := HN.out; omega
        have h1 : n * 8 % 18446744073709551616 = n * 8 := by have := HN.out; omega
        have h2 : UInt64.ofNat (n * 8) = X := by rw [← hX]; simp
        have h3 : wordB 8 (UInt64.ofNat 0) = List.replicate 8 0 := by decide
        rw [HP.out, h0, h1, h2, h3]
        simp)
      have hY : ((l ++ (128 : UInt8) :: List.replicate k 0) ++ List.replicate 8 0).length ≤ 1073742000 := by rw [List.length_append, HL3.out, List.length_replicate]; have := HN3.out; have := HN.out; have := HQ.out; omega
      generalize hYY : (l ++ (128 : UInt8) :: List.replicate k 0) ++ List.replicate 8 0 = Y at *
      have HY := Lib.hid hY
      have hXI : (X.toNat : Int) = (n : Int) * 8 := by omega
      rw [← hXI]
      have hXlt : X.toNat < 18446744073709551616 := X.toNat_lt
      clear hXI hX hY hYY HB1 HO HB HL3 HR3 HN3
      go_loopw [3, 5] (fun v vi wr => ∃ t j : Nat, t + j = 8 ∧ vi = .int .i64 ((j : Int) - 1) ∧ Hid (Ow wr w.heap.size v (Y ++ wordB t X)) ∧ Hid (Below w.heap.size w wr)) (fun _ vi _ => (intOf vi + 1).toNat)
      case atStart => exact ⟨0, 8, rfl, rfl, Lib.hid (by simpa [wordB] using HO4.out), Lib.hid HB4.out⟩
      case round =>
        clear HO4 HB4
        obtain ⟨t, j, htj, rfl, HO, HB⟩ := hrel
        have HBS := Lib.hid HB.out.size
        rcases Nat.eq_zero_or_pos j with rfl | hj
        · obtain rfl : t = 8 := by omega
          go_wp2
          go_ret
          have ho := HO.out
          rw [← HPX.out] at ho
          exact Gives.mk ho HB.out
        · obtain ⟨i, rfl⟩ : ∃ i, j = i + 1 := ⟨j - 1, by omega⟩
          rw [show (((i + 1 : Nat) : Int) - 1) = (i : Int) by omega]
          have hx0 := Lib.hid (show 0 ≤ (X.toNat : Int) / 2 ^ (8 * i) % 256 from Int.emod_nonneg _ (by omega))
          have hx1 := Lib.hid (show (X.toNat : Int) / 2 ^ (8 * i) % 256 < 256 from Int.emod_lt_of_pos _ (by omega))
          have hstep : Hid (Y ++ wordB t X ++ [UInt8.ofNat ((X.toNat : Int) / 2 ^ (8 * i) % 256).toNat] = Y ++ wordB (t + 1) X) := by
            rw [byte_at, wordB, List.append_assoc, show 56 - 8 * t = 8 * i by omega]
            exact Lib.hid rfl
          have hw := Lib.hid (show (Y ++ wordB t X).length + 1 ≤ 140737488355328 by rw [List.length_append, wordB_length]; have := HY.out; omega)
          go_wp2_with (at_builtin; go_loud (refine wpList_app rfl _ _ rfl rfl (HO.out.alloc _) rfl (Rd.lit1 wr _ hx0.out hx1.out) hw.out (Nat.le_trans HBS.out (by simp)) ?_; intro v5 w5 ho5 hg5 hv5))
          rw [hstep.out] at ho5
          exact ⟨⟨t + 1, i, by omega, rfl, Lib.hid ho5, Lib.hid ((bl_alloc HB.out (.cells #[.int .u8 ((X.toNat : Int) / 2 ^ (8 * i) % 256)] 5)).grown hg5 (Nat.le_trans HBS.out (by simp)) (fun g hg => (World.ownsRow.lt HO.out g hg).1))⟩, by simp [intOf]⟩
    · have hM : (M3 : Int) ≠ 112 := fun e => hkq (hm3.1 (by omega))
      have hb1 : (l ++ (128 : UInt8) :: List.replicate k 0).length + 1 ≤ 140737488355328 := by have := HL3.out; have := HN3.out; have := HN.out; have := HQ.out; omega
      have HB1 := Lib.hid hb1
      have HZ := Lib.hid (show (l ++ (128 : UInt8) :: List.replicate k 0) ++ [UInt8.ofNat (0 : Int).toNat] = l ++ 128 :: List.replicate (k + 1) 0 by rw [List.replicate_succ']; simp)
      clear hm3 hb1
      go_wp2_with (first | (refine wpList_exec' rfl _ (exec_rem _ rfl HM3.out rfl) ?_) | (at_builtin; go_loud (refine wpList_app rfl _ _ rfl rfl (HO.out.alloc _) rfl (Rd.lit1 wr 0 (by omega) (by omega)) HB1.out (Nat.le_trans HBW.out (by simp)) ?_; intro v4 w4 ho4 hg4 hv4)))
      rw [HZ.out] at ho4
      have HO4 := Lib.hid ho4
      have HB4 := Lib.hid ((bl_alloc HB.out (.cells #[.int .u8 0] 5)).grown hg4 (Nat.le_trans HBW.out (by simp)) (fun g hg => (World.ownsRow.lt HO.out g hg).1))
      obtain ⟨A4, c4, e4, _⟩ := ho4.rd
      clear ho4 hg4 hv4
      go_roundw
      case rel => exact ⟨k + 1, by omega, HO4, HB4⟩
      case measure =>
        subst e4
        have h3 := HN3.out
        have h4 : (l ++ (128 : UInt8) :: List.replicate (k + 1) 0).length = N3 + 1 := by rw [← HZ.out, List.length_append, HL3.out]; rfl
        rw [h4]
        simp [sliceLen]
        omega

theorem signs_at64 (st : List UInt64) (t : Nat) (hs : st.length = 8) (ht : t < 64) : ∃ x, st[t / 8]? = some x ∧ (signsOf st)[t]? = some (UInt8.ofNat (x.toNat / 2 ^ (56 - 8 * (t % 8)) % 256)) := by
  have hwb : ∀ (x : UInt64) (n k : Nat), k < n → (wordB n x)[k]? = some (UInt8.ofNat (x.toNat / 2 ^ (56 - 8 * k) % 256)) := by
    intro x n
    induction n with
    | zero => intro k hk; omega
    | succ n ih =>
      intro k hk
      rw [wordB, List.getElem?_append, wordB_length]
      by_cases h : k < n
      · rw [if_pos h, ih k h]
      · obtain rfl : k = n := by omega
        rw [if_neg h, Nat.sub_self]
        rfl
  have key : ∀ (l : List UInt64) (t : Nat), t < 8 * l.length → ∃ x, l[t / 8]? = some x ∧ (signsOf l)[t]? = some (UInt8.ofNat (x.toNat / 2 ^ (56 - 8 * (t % 8)) % 256)) := by
    intro l
    induction l with
    | nil => intro t ht; simp at ht
    | cons a r ih =>
      intro t ht
      rw [show signsOf (a :: r) = wordB 8 a ++ signsOf r by simp [signsOf], List.getElem?_append, wordB_length]
      by_cases h : t < 8
      · rw [if_pos h, show t / 8 = 0 by omega, show t % 8 = t by omega]
        exact ⟨a, rfl, hwb a 8 t h⟩
      · obtain ⟨x, h1, h2⟩ := ih (t - 8) (by simp only [List.length_cons] at ht; omega)
        rw [if_neg h, show t / 8 = (t - 8) / 8 + 1 by omega, show t % 8 = (t - 8) % 8 by omega]
        exact ⟨x, h1, h2⟩
  exact key st t (by omega)

/-- The first t bytes of a sum, noughts behind them. -/
def sgZ (st : List UInt64) (t : Nat) : List Value := cs8 ((signsOf st).take t ++ List.replicate (64 - t) 0)
theorem sgZ_length (st : List UInt64) (t : Nat) (hs : st.length = 8) (ht : t ≤ 64) : (sgZ st t).length = 64 := by
  have := signs_length st
  simp [sgZ, cs8_length, List.length_take]; omega
theorem sgZ_set (st : List UInt64) (t : Nat) (hs : st.length = 8) (ht : t < 64) (b : UInt8) (hb : (signsOf st)[t]? = some b) : (sgZ st t).set t (B8 b) = sgZ st (t + 1) := by
  have hl := signs_length st
  have h1 : ((signsOf st).take t).length = t := by rw [List.length_take]; omega
  unfold sgZ cs8
  have e := List.set_append_right (s := (signsOf st).take t) (t := List.replicate (64 - t) 0) (i := t) (x := b) (by omega)
  rw [← List.map_set, e, h1, Nat.sub_self, show 64 - t = (64 - (t + 1)) + 1 from by omega, List.replicate_succ, List.set_cons_zero, List.take_add_one, hb, List.append_assoc]
  rfl
theorem sgZ_all (st : List UInt64) (hs : st.length = 8) : sgZ st 64 = cs8 (signsOf st) := by
  have hl := signs_length st
  unfold sgZ
  rw [List.take_of_length_le (by omega), Nat.sub_self, List.replicate_zero, List.append_nil]
set_option maxHeartbeats 1600000 in
theorem Qbytes_any (st : List UInt64) (hs : st.length = 8) (w : World) : Calls Tryz.prog 130 #[.agg (cs64 st).toArray] w fun e w' => e = .returned (.agg (cs8 (signsOf st)).toArray) ∧ Below w.heap.size w w' := by
  have HL := Lib.hid (show (cs64 st).length = 8 by rw [cs64_length, hs])
  have HSA := Lib.hid (fun t => signs_at64 st t hs)
  have HST := Lib.hid (fun t => sgZ_set st t hs)
  have HSL := Lib.hid (fun t => sgZ_length st t hs)
  have HALL := Lib.hid (sgZ_all st hs)
  have HS8 := Lib.hid (show (cs8 (signsOf st)).length = 64 by rw [cs8_length, signs_length, hs])
  go_enter Tryz.func130, Tryz.ntmps130
  go_wp2_with (refine wpList_alloc_z rfl 165 rfl z33 zero33 ?_)
  go_loopw [4] (fun vi wr => ∃ t : Nat, t ≤ 64 ∧ vi = .int .i64 (t : Int) ∧ Bk wr w.heap.size (cs64 st) ∧ Bk wr (w.heap.size + 1) z33 ∧ Bk wr (w.heap.size + 1 + 1) (sgZ st t) ∧ Below w.heap.size w wr) (fun vi _ => 64 - (intOf vi).toNat)
  case atStart =>
    refine ⟨0, by omega, rfl, ?_, ?_, ?_, ?_⟩
    · exact ((Bk.new w (cs64 st) 161).old _).old _
    · simpa using (Bk.new (w.alloc (.cells (cs64 st).toArray 161)) z33 165).old _
    · have := Bk.new ((w.alloc (.cells (cs64 st).toArray 161)).alloc (.cells z33.toArray 165)) z33 165
      simpa [sgZ, z33] using this
    · exact bl_alloc (bl_alloc (bl_alloc (bl0 w) _) _) _
  case round =>
    obtain ⟨t, ht, rfl, hk0, hk1, hk2, hb⟩ := hrel
    have HB0 := Lib.hid hk0
    have HB1 := Lib.hid hk1
    have HK := Lib.hid hk2
    clear hk0 hk1 hk2
    by_cases hlt : t < 64
    · obtain ⟨x, hx1, hx2⟩ := HSA.out t hlt
      have HX := Lib.hid (HST.out t hlt _ hx2)
      have hq8 : t / 8 < 8 := by omega
      obtain ⟨q8, hq⟩ : ∃ q, t / 8 = q := ⟨_, rfl⟩
      obtain ⟨r8, hr⟩ : ∃ r, t % 8 = r := ⟨_, rfl⟩
      rw [hq] at hx1 hq8
      rw [hr] at hx2 HX
      obtain ⟨S, hS⟩ : ∃ S, S = 56 - 8 * r8 := ⟨_, rfl⟩
      rw [← hS] at HX
      have hSR : S + 8 * r8 = 56 := by omega
      have HSR := Lib.hid hSR
      have HQ8 := Lib.hid hq
      have HR8 := Lib.hid hr
      have hS63 : S ≤ 56 := by omega
      have hr8 : (r8 : Int) ≤ 7 := by omega
      have hc0 := HB0.out.cell (k := q8) (v := B64 x) (by rw [cs64, List.getElem?_map, hx1]; rfl)
      have hf2 := HK.out.frozen t
      have hc2 := HK.out.cell (k := t) (List.getElem?_eq_getElem (by rw [HSL.out t ht]; exact hlt))
      have hxx : x.toNat < 18446744073709551616 := x.toNat_lt
      unfold B64 at hc0
      clear hx1 hx2 hq hr hS hSR
      go_wp2_with (first | (refine wpList_exec' rfl _ (exec_quo8 _ rfl HQ8.out (by omega) rfl) ?_) | (refine wpList_exec' rfl _ (exec_rem8 _ rfl HR8.out rfl) ?_) | (refine wpList_exec' rfl _ (exec_56 _ rfl HSR.out rfl) ?_))
      have hB : B8 (UInt8.ofNat (x.toNat / 2 ^ S % 256)) = .int .u8 ((x.toNat : Int) / 2 ^ S % 256) := by
        rw [B8, show (UInt8.ofNat (x.toNat / 2 ^ S % 256)).toNat = x.toNat / 2 ^ S % 256 from by simp]
        simp
      rw [hB] at HX
      refine ⟨⟨t + 1, by omega, by go_num, HB0.out.setCell_ne (by omega) _ _, HB1.out.setCell_ne (by omega) _ _, ?_, bl_setCell hb (by omega) _ _⟩, by simp [intOf]; omega⟩
      rw [← HX.out]
      exact HK.out.setCell _ _
    · obtain rfl : t = 64 := by omega
      have hk := HK.out
      rw [HALL.out] at hk
      have HK6 := Lib.hid hk
      clear hk HK
      go_wp2_with (first | (refine wpList_load_at rfl 165 _ rfl ⟨w.heap.size + 1 + 1, 0, none⟩ rfl (cs8 (signsOf st)) _ HK6.out.at_ Tryz.underlying165 rfl (by rw [HS8.out]; exact info33) ?_) | (refine wpList_store_bk rfl 165 _ _ rfl (w.heap.size + 1) rfl (cs8 (signsOf st)) z33 rfl HB1.out (by rw [HS8.out]; exact info33) (by rw [HS8.out]; exact len_z33) (cs8_all _) ?_))
      exact ret_bk rfl (w.heap.size + 1) _ _ rfl rfl (HB1.out.setRow _) Tryz.underlying165 rfl (by rw [HS8.out]; exact info33) ⟨rfl, bl_setRow hb (by omega) _⟩
end Go.Proofs.YtgpfognglpfmoaaGreatDoor
