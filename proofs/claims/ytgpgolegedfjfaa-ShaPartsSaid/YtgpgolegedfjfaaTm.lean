/- Numbers of four words multiplied: times. -/
import Derived.Test.YtgpgolegedfjfaaBx
import Derived.Test.YtgpgolegedfjfaaShelf
import Derived.Test.YtgpgolegedfjfaaMix
import Derived.Shelf.Spec.BitsCarry
namespace Go.Proofs.Ytgpgolegedfjfaa
open Go.RowKit Go.Shelf

def ren25 : Go.Shelf.Ren := ⟨fun | 25 => 9 | n => n, fun | 22 => 24 | n => n, fun | n => n⟩
theorem lays25 : Go.Proofs.Lays7.n25 Try.prog ren25 := {
  mixed := by kernel_rfl
  f25 := Try.func9.trans (congrArg some (by kernel_rfl))
  t22 := Try.underlying24
  a22 := Try.isAgg24
  z22 := Try.sizeOf24
  v22 := Try.zeroValue24
  i22 := by kernel_rfl }
/-- A sum of two words, and what goes over. -/
theorem add64_any {x y s o : UInt64} (hs : (x.toNat + y.toNat) % 18446744073709551616 = s.toNat) (ho : (x.toNat + y.toNat) / 18446744073709551616 = o.toNat) (w : World) :
    (callFunc 9 #[.int .u64 (x.toNat : Int), .int .u64 (y.toNat : Int), .int .u64 0]).run Try.prog w = .ok (.value (.tuple #[.int .u64 (s.toNat : Int), .int .u64 (o.toNat : Int)])) w := by
  have h := Any7.bits_Add64 lays25 x.toNat y.toNat 0 (by omega) w
  rw [Nat.add_zero, hs, ho] at h
  exact h

/-- One product added: the word, and what is carried on. -/
def mac (o a b c : UInt64) : UInt64 × UInt64 := (UInt64.ofNat ((o.toNat + a.toNat * b.toNat + c.toNat) % 18446744073709551616), UInt64.ofNat ((o.toNat + a.toNat * b.toNat + c.toNat) / 18446744073709551616))
def rowT (a : UInt64) (b out : List UInt64) (i : Nat) : Nat → List UInt64 × UInt64
  | 0 => (out, 0)
  | j + 1 =>
    let r := rowT a b out i j
    let s := mac (r.1.getD (i + j) 0) a (b.getD j 0) r.2
    (r.1.set (i + j) s.1, s.2)
def outT (a b : List UInt64) : Nat → List UInt64
  | 0 => [0, 0, 0, 0]
  | i + 1 => (rowT (a.getD i 0) b (outT a b i) i (4 - i)).1
/-- The product modulo 2^256. -/
def mul4 (a b : List UInt64) : List UInt64 := outT a b 4
theorem rowT_length (a : UInt64) (b out : List UInt64) (i : Nat) : ∀ j, (rowT a b out i j).1.length = out.length
  | 0 => rfl
  | j + 1 => by simp [rowT, rowT_length a b out i j]
theorem outT_length (a b : List UInt64) : ∀ i, (outT a b i).length = 4
  | 0 => rfl
  | i + 1 => by rw [outT, rowT_length, outT_length a b i]

theorem mac_parts (o a b c : UInt64) : ∃ hi lo l1 o1 h1 o2 o3 c2 : UInt64, a.toNat * b.toNat / 18446744073709551616 = hi.toNat ∧ a.toNat * b.toNat % 18446744073709551616 = lo.toNat ∧
    (lo.toNat + c.toNat) % 18446744073709551616 = l1.toNat ∧ (lo.toNat + c.toNat) / 18446744073709551616 = o1.toNat ∧ hi + o1 = h1 ∧
    (o.toNat + l1.toNat) % 18446744073709551616 = o2.toNat ∧ (o.toNat + l1.toNat) / 18446744073709551616 = o3.toNat ∧ h1 + o3 = c2 ∧ mac o a b c = (o2, c2) := by
  have ha := a.toNat_lt
  have hb := b.toNat_lt
  have hc := c.toNat_lt
  have ho := o.toNat_lt
  have hm : a.toNat * b.toNat ≤ 18446744073709551615 * 18446744073709551615 := Nat.mul_le_mul (by omega) (by omega)
  unfold mac
  generalize a.toNat * b.toNat = m at hm ⊢
  have e : ∀ n : Nat, n < 18446744073709551616 → (UInt64.ofNat n).toNat = n := fun n h => toNat_of h
  refine ⟨UInt64.ofNat (m / 18446744073709551616), UInt64.ofNat (m % 18446744073709551616), UInt64.ofNat ((m % 18446744073709551616 + c.toNat) % 18446744073709551616), UInt64.ofNat ((m % 18446744073709551616 + c.toNat) / 18446744073709551616), _,
    UInt64.ofNat ((o.toNat + (m % 18446744073709551616 + c.toNat) % 18446744073709551616) % 18446744073709551616), UInt64.ofNat ((o.toNat + (m % 18446744073709551616 + c.toNat) % 18446744073709551616) / 18446744073709551616), _, ?_, ?_, ?_, ?_, rfl, ?_, ?_, rfl, ?_⟩
  · rw [e _ (by omega)]
  · rw [e _ (by omega)]
  · rw [e _ (by omega), e _ (by omega)]
  · rw [e _ (by omega), e _ (by omega)]
  · rw [e _ (by omega), e _ (by omega)]
  · rw [e _ (by omega), e _ (by omega)]
  · refine Prod.ext ?_ ?_
    · apply UInt64.toNat_inj.1
      rw [e _ (by omega), e _ (by omega)]
      omega
    · apply UInt64.toNat_inj.1
      rw [UInt64.toNat_add, UInt64.toNat_add, e _ (by omega), e _ (by omega), e _ (by omega), e _ (by omega)]
      omega

set_option maxHeartbeats 1600000 in
set_option maxRecDepth 8192 in
theorem times_any (a b : List UInt64) (ha : a.length = 4) (hb : b.length = 4) (w : World) : Calls Try.prog 31 #[.agg (cs64 a).toArray, .agg (cs64 b).toArray] w fun e w' => e = .returned (.agg (cs64 (mul4 a b)).toArray) ∧ Below w.heap.size w w' := by
  have HAL := Lib.hid ha
  have HBL := Lib.hid hb
  have HML := Lib.hid (show (cs64 (mul4 a b)).length = 4 by rw [cs64_length, mul4, outT_length])
  have HMU := Lib.hid (show mul4 a b = outT a b 4 from rfl)
  generalize mul4 a b = M at HML HMU ⊢
  have HOL := Lib.hid (outT_length a b)
  have HAS := Lib.hid (show ∀ i, i < 4 → (cs64 a)[i]? = some (.int .u64 ((a.getD i 0).toNat : Int)) from fun i hi => cells64_at a i (by omega))
  have HBS := Lib.hid (show ∀ i, i < 4 → (cs64 b)[i]? = some (.int .u64 ((b.getD i 0).toNat : Int)) from fun i hi => cells64_at b i (by omega))
  have HRL := Lib.hid (show ∀ (x : UInt64) out i j, (rowT x b out i j).1.length = out.length from fun x out i j => rowT_length x b out i j)
  clear ha hb
  go_enter Try.func31, Try.ntmps31
  go_wp2_with (refine wpList_alloc_z rfl 56 rfl z56 zero56 ?_)
  have HB0 := Lib.hid (bl_alloc (bl_alloc (bl_alloc (bl_alloc (bl0 w) (.cells (cs64 a).toArray 56)) (.cells (cs64 b).toArray 56)) (.cells z56.toArray 56)) (.cells z56.toArray 56))
  have HA0 := Lib.hid ((((Bk.new w (cs64 a) 56).old (.cells (cs64 b).toArray 56)).old (.cells z56.toArray 56)).old (.cells z56.toArray 56))
  have HBB0 : Hid (Bk ((((w.alloc (.cells (cs64 a).toArray 56)).alloc (.cells (cs64 b).toArray 56)).alloc (.cells z56.toArray 56)).alloc (.cells z56.toArray 56)) (w.heap.size + 1) (cs64 b)) := Lib.hid (by
    have := ((Bk.new (w.alloc (.cells (cs64 a).toArray 56)) (cs64 b) 56).old (.cells z56.toArray 56)).old (.cells z56.toArray 56)
    simpa using this)
  have HR0 : Hid (Bk ((((w.alloc (.cells (cs64 a).toArray 56)).alloc (.cells (cs64 b).toArray 56)).alloc (.cells z56.toArray 56)).alloc (.cells z56.toArray 56)) (w.heap.size + 1 + 1) z56) := Lib.hid (by
    have := (Bk.new ((w.alloc (.cells (cs64 a).toArray 56)).alloc (.cells (cs64 b).toArray 56)) z56 56).old (.cells z56.toArray 56)
    simpa using this)
  have HO0 : Hid (Bk ((((w.alloc (.cells (cs64 a).toArray 56)).alloc (.cells (cs64 b).toArray 56)).alloc (.cells z56.toArray 56)).alloc (.cells z56.toArray 56)) (w.heap.size + 1 + 1 + 1) (cs64 (outT a b 0))) := Lib.hid (by
    have := Bk.new (((w.alloc (.cells (cs64 a).toArray 56)).alloc (.cells (cs64 b).toArray 56)).alloc (.cells z56.toArray 56)) z56 56
    rw [show cs64 (outT a b 0) = z56 from rfl]
    simpa using this)
  go_loopw [12] (fun v12 wr => ∃ i : Nat, i ≤ 4 ∧ v12 = .int .i64 (i : Int) ∧ Hid (Bk wr w.heap.size (cs64 a)) ∧ Hid (Bk wr (w.heap.size + 1) (cs64 b)) ∧ Hid (Bk wr (w.heap.size + 1 + 1) z56) ∧ Hid (Bk wr (w.heap.size + 1 + 1 + 1) (cs64 (outT a b i))) ∧ Hid (Below w.heap.size w wr)) (fun v12 _ => 4 - (intOf v12).toNat)
  case atStart => exact ⟨0, by omega, rfl, HA0, HBB0, HR0, HO0, HB0⟩
  case round =>
    clear HA0 HBB0 HR0 HO0 HB0
    obtain ⟨i, hi, rfl, HA, HB, HR, HO, HBW⟩ := hrel
    by_cases hlt : i < 4
    · have hai := Lib.hid (HAS.out i hlt)
      have HNX := Lib.hid (show outT a b (i + 1) = (rowT (a.getD i 0) b (outT a b i) i (4 - i)).1 from rfl)
      have hol := Lib.hid (HOL.out i)
      generalize a.getD i 0 = ai at hai HNX
      generalize outT a b i = out0 at HO HNX hol
      have hdec : decide ((i : Int) < 4) = true := by simp; omega
      go_wp2
      go_loopw [7, 17] (fun v7 v17 wr => ∃ (j : Nat) (c : UInt64) (out : List UInt64), j ≤ 4 - i ∧ v17 = .int .i64 (j : Int) ∧ v7 = .int .u64 (c.toNat : Int) ∧ Hid (rowT ai b out0 i j = (out, c)) ∧ Hid (Bk wr w.heap.size (cs64 a)) ∧ Hid (Bk wr (w.heap.size + 1) (cs64 b)) ∧ Hid (Bk wr (w.heap.size + 1 + 1) z56) ∧ Hid (Bk wr (w.heap.size + 1 + 1 + 1) (cs64 out)) ∧ Hid (Below w.heap.size w wr)) (fun _ v17 _ => 4 - i - (intOf v17).toNat)
      case atStart => exact ⟨0, 0, out0, by omega, rfl, rfl, Lib.hid rfl, HA, HB, HR, HO, HBW⟩
      case round =>
        clear HA HB HR HO HBW
        obtain ⟨j, c, out, hj, rfl, rfl, HRW, HA, HB, HR, HO, HBW⟩ := hrel
        have hlen : Hid (out.length = 4) := Lib.hid (by have := HRL.out ai out0 i j; rw [HRW.out, hol.out] at this; exact this)
        by_cases hjl : j < 4 - i
        · have hbj := Lib.hid (HBS.out j (by omega))
          have HNJ := Lib.hid (show rowT ai b out0 i (j + 1) = (out.set (i + j) (mac (out.getD (i + j) 0) ai (b.getD j 0) c).1, (mac (out.getD (i + j) 0) ai (b.getD j 0) c).2) from by rw [rowT, HRW.out])
          have hoc := HO.out.cell (cells64_at out (i + j) (by rw [hlen.out]; omega))
          have hof := HO.out.frozen (i + j)
          generalize b.getD j 0 = bj at hbj HNJ
          generalize out.getD (i + j) 0 = oj at hoc HNJ
          obtain ⟨hi, lo, l1, o1, h1, o2, o3, c2, e1, e2, e3, e4, e5, e6, e7, e8, e9⟩ := mac_parts oj ai bj c
          have HM : Hid (∀ w, Calls Try.prog 8 #[.int .u64 (ai.toNat : Int), .int .u64 (bj.toNat : Int)] w fun e w' => e = .returned (.tuple #[.int .u64 (hi.toNat : Int), .int .u64 (lo.toNat : Int)]) ∧ w' = w) := Lib.hid (fun w => by
            have := Try.bits_Mul64 ai.toNat bj.toNat ai.toNat_lt bj.toNat_lt w
            rw [e1, e2] at this
            exact this)
          have k1 := add64_any e3 e4
          have k2 := add64_any e6 e7
          have k3 : IntKind.u64.wrap ((hi.toNat : Int) + (o1.toNat : Int)) = (h1.toNat : Int) := by rw [addU, e5]
          have k4 : IntKind.u64.wrap ((h1.toNat : Int) + (o3.toNat : Int)) = (c2.toNat : Int) := by rw [addU, e8]
          rw [e9] at HNJ
          clear e1 e2 e3 e4 e5 e6 e7 e8 e9
          go_wp2_with fail
          have hR := Sm.stays
          refine reg_start Sm follows_mixed ?_
-- region 10 of f31: 12 operations, draws: true
          refine reg_take (v := ?_) hR 0 rfl (by kernel_rfl) (by kernel_rfl) (by kernel_rfl) (fun _ _ _ h => h) (by rfl) ?_ ?_
          rotate_left
          · intro W hW; go_simp; try with_reducible rfl
          try simp only [Act.put, List.getElem_toArray, List.getElem_cons_succ, List.getElem_cons_zero, List.setIfInBounds_toArray, List.set_cons_zero, List.set_cons_succ]
          refine reg_take (v := .pointer (some ⟨w.heap.size, i, none⟩)) hR 1 rfl (by kernel_rfl) (by kernel_rfl) (by kernel_rfl) (fun _ _ _ h => h) (by rfl) ?_ ?_
          · intro W hW; exact exec_at64 56 _ _ rfl Try.underlying56 rfl rfl (by omega)
          try simp only [Act.put, List.getElem_toArray, List.getElem_cons_succ, List.getElem_cons_zero, List.setIfInBounds_toArray, List.set_cons_zero, List.set_cons_succ]
          refine reg_take (v := .int .u64 (ai.toNat : Int)) hR 2 rfl (by kernel_rfl) (by kernel_rfl) (by kernel_rfl) (fun _ _ _ h => h) (by rfl) ?_ ?_
          · intro W hW; rw [show W = _ from hW]; exact exec_load_cell 24 _ rfl Try.isAgg24 rfl (HA.out.drew.cell hai.out)
          try simp only [Act.put, List.getElem_toArray, List.getElem_cons_succ, List.getElem_cons_zero, List.setIfInBounds_toArray, List.set_cons_zero, List.set_cons_succ]
          refine reg_take (v := ?_) hR 3 rfl (by kernel_rfl) (by kernel_rfl) (by kernel_rfl) (fun _ _ _ h => h) (by rfl) ?_ ?_
          rotate_left
          · intro W hW; go_simp; try with_reducible rfl
          try simp only [Act.put, List.getElem_toArray, List.getElem_cons_succ, List.getElem_cons_zero, List.setIfInBounds_toArray, List.set_cons_zero, List.set_cons_succ]
          refine reg_take (v := .pointer (some ⟨w.heap.size + 1, j, none⟩)) hR 4 rfl (by kernel_rfl) (by kernel_rfl) (by kernel_rfl) (fun _ _ _ h => h) (by rfl) ?_ ?_
          · intro W hW; exact exec_at64 56 _ _ rfl Try.underlying56 rfl rfl (by omega)
          try simp only [Act.put, List.getElem_toArray, List.getElem_cons_succ, List.getElem_cons_zero, List.setIfInBounds_toArray, List.set_cons_zero, List.set_cons_succ]
          refine reg_take (v := .int .u64 (bj.toNat : Int)) hR 5 rfl (by kernel_rfl) (by kernel_rfl) (by kernel_rfl) (fun _ _ _ h => h) (by rfl) ?_ ?_
          · intro W hW; rw [show W = _ from hW]; exact exec_load_cell 24 _ rfl Try.isAgg24 rfl (HB.out.drew.cell hbj.out)
          try simp only [Act.put, List.getElem_toArray, List.getElem_cons_succ, List.getElem_cons_zero, List.setIfInBounds_toArray, List.set_cons_zero, List.set_cons_succ]
          -- STEP 6: Op.call { callee := Callee.value (Operand.func 8), args := #[t23, t26], argTypes := #[24, 24] }
          refine reg_step hR 6 (by kernel_rfl) rfl fun K hK => ?_
          try simp only [Act.put, List.getElem_toArray, List.getElem_cons_succ, List.getElem_cons_zero, List.setIfInBounds_toArray, List.set_cons_zero, List.set_cons_succ]
          go_simp
          refine (HM.out _).mono ?_; rintro e w2 ⟨rfl, rfl⟩
          refine hK.out _ _ ?_ ?_
          · exact rfl
          clear hK K
          try simp only [Act.put, List.getElem_toArray, List.getElem_cons_succ, List.getElem_cons_zero, List.setIfInBounds_toArray, List.set_cons_zero, List.set_cons_succ]
          refine reg_take (v := ?_) hR 7 rfl (by kernel_rfl) (by kernel_rfl) (by kernel_rfl) (fun _ _ _ h => h) (by rfl) ?_ ?_
          rotate_left
          · intro W hW; go_simp; try with_reducible rfl
          try simp only [Act.put, List.getElem_toArray, List.getElem_cons_succ, List.getElem_cons_zero, List.setIfInBounds_toArray, List.set_cons_zero, List.set_cons_succ]
          refine reg_take (v := ?_) hR 8 rfl (by kernel_rfl) (by kernel_rfl) (by kernel_rfl) (fun _ _ _ h => h) (by rfl) ?_ ?_
          rotate_left
          · intro W hW; go_simp; try with_reducible rfl
          try simp only [Act.put, List.getElem_toArray, List.getElem_cons_succ, List.getElem_cons_zero, List.setIfInBounds_toArray, List.set_cons_zero, List.set_cons_succ]
          refine reg_take (v := ?_) hR 9 rfl (by kernel_rfl) (by kernel_rfl) (by kernel_rfl) (fun _ _ _ h => h) (by rfl) ?_ ?_
          rotate_left
          · intro W hW; go_simp; try with_reducible rfl
          try simp only [Act.put, List.getElem_toArray, List.getElem_cons_succ, List.getElem_cons_zero, List.setIfInBounds_toArray, List.set_cons_zero, List.set_cons_succ]
          refine reg_take (v := ?_) hR 10 rfl (by kernel_rfl) (by kernel_rfl) (by kernel_rfl) (fun _ _ _ h => h) (by rfl) ?_ ?_
          rotate_left
          · intro W hW; go_simp; try with_reducible rfl
          try simp only [Act.put, List.getElem_toArray, List.getElem_cons_succ, List.getElem_cons_zero, List.setIfInBounds_toArray, List.set_cons_zero, List.set_cons_succ]
          refine reg_take (v := ?_) hR 11 rfl (by kernel_rfl) (by kernel_rfl) (by kernel_rfl) (fun _ _ _ h => h) (by rfl) ?_ ?_
          rotate_left
          · intro W hW; go_simp; try with_reducible rfl
          try simp only [Act.put, List.getElem_toArray, List.getElem_cons_succ, List.getElem_cons_zero, List.setIfInBounds_toArray, List.set_cons_zero, List.set_cons_succ]
          refine reg_done (by kernel_rfl) ?_ _

          go_wp2_with (first | simp only [k1] | simp only [k2])
          go_roundw
          case rel =>
            refine ⟨j + 1, c2, out.set (i + j) o2, by omega, by go_num, rfl, Lib.hid HNJ.out, Lib.hid (HA.out.drew.setCell_ne (by omega) _ _), Lib.hid (HB.out.drew.setCell_ne (by omega) _ _), Lib.hid (HR.out.drew.setCell_ne (by omega) _ _), Lib.hid ?_, Lib.hid (bl_setCell HBW.out.drew (by omega) _ _)⟩
            rw [cs64, List.map_set]
            exact HO.out.drew.setCell _ _
          case measure => simp [intOf]; omega
        · obtain rfl : j = 4 - i := by omega
          rw [HRW.out] at HNX
          go_wp2
          go_roundw
          case rel => exact ⟨i + 1, by omega, by go_num, HA, HB, HR, Lib.hid (by rw [HNX.out]; exact HO.out), HBW⟩
          case measure => simp [intOf]; omega
    · obtain rfl : i = 4 := by omega
      rw [← HMU.out] at HO
      go_wp2_with (first | (refine wpList_load_at rfl 56 _ rfl _ rfl (cs64 M) _ (HO.out.at_) Try.underlying56 rfl (by rw [HML.out]; exact info56) ?_) | (refine wpList_store_bk rfl 56 _ _ rfl (w.heap.size + 1 + 1) rfl (cs64 M) z56 rfl HR.out (by rw [HML.out]; exact info56) (by rw [HML.out]; exact len_z56) (cs64_one _) ?_))
      exact ret_bk rfl (w.heap.size + 1 + 1) _ _ rfl rfl (HR.out.setRow _) Try.underlying56 rfl (by rw [HML.out]; exact info56) ⟨rfl, bl_setRow HBW.out (by omega) _⟩
end Go.Proofs.Ytgpgolegedfjfaa
