/- Numbers of four words raised, and compared. -/
import Derived.Test.YtgpgolegedfjfaaTm
namespace Go.Proofs.Ytgpgolegedfjfaa
open Go.RowKit

theorem exec_ne64 {o : Oper} {a : Act} {w : World} (x y : Operand) (ho : o.op = .binOp .neq 24 x y 24) {m n : UInt64} (hx : a.eval x = .int .u64 (m.toNat : Int)) (hy : a.eval y = .int .u64 (n.toNat : Int)) :
    (execOp a.eval o).run Try.prog w = .ok (.value (.bool (decide (m ≠ n)))) w := by
  have e : ((m.toNat : Int) == (n.toNat : Int)) = decide (m = n) := by
    rw [Bool.eq_iff_iff, beq_iff_eq, decide_eq_true_iff]
    constructor
    · intro h; exact UInt64.toNat_inj.1 (by omega)
    · intro h; rw [h]
  unfold execOp
  simp only [ho, hx, hy]
  simp [go_sem, bne, e]
theorem exec_gt64 {o : Oper} {a : Act} {w : World} (x y : Operand) (ho : o.op = .binOp .gtr 24 x y 24) {m n : UInt64} (hx : a.eval x = .int .u64 (m.toNat : Int)) (hy : a.eval y = .int .u64 (n.toNat : Int)) :
    (execOp a.eval o).run Try.prog w = .ok (.value (.bool (decide (n < m)))) w := by
  have e : decide ((n.toNat : Int) < (m.toNat : Int)) = decide (n < m) := by
    rw [Bool.eq_iff_iff, decide_eq_true_iff, decide_eq_true_iff, UInt64.lt_iff_toNat_lt]
    omega
  unfold execOp
  simp only [ho, hx, hy]
  simp [go_sem]
  exact UInt64.lt_iff_toNat_lt.symm

def raiseT (a : List UInt64) : Nat → List UInt64
  | 0 => a
  | k + 1 => mul4 (raiseT a k) a
theorem raiseT_length (a : List UInt64) (h : a.length = 4) : ∀ k, (raiseT a k).length = 4
  | 0 => h
  | k + 1 => outT_length _ _ _
/-- Whether a is above b, by their first k words. -/
def abv (a b : List UInt64) : Nat → Bool
  | 0 => false
  | k + 1 => if a.getD k 0 ≠ b.getD k 0 then decide (b.getD k 0 < a.getD k 0) else abv a b k

set_option maxHeartbeats 1600000 in
theorem raised_any (a : List UInt64) (q : Nat) (ha : a.length = 4) (hq : q ≤ 4) (w : World) : Calls Try.prog 24 #[.agg (cs64 a).toArray, .int .i64 ((q + 1 : Nat) : Int)] w fun e w' => e = .returned (.agg (cs64 (raiseT a q)).toArray) ∧ Below w.heap.size w w' := by
  have HAL := Lib.hid ha
  have HCL := Lib.hid (show (cs64 a).length = 4 by rw [cs64_length, ha])
  have HRL := Lib.hid (show ∀ k, (cs64 (raiseT a k)).length = 4 from fun k => by rw [cs64_length, raiseT_length a ha])
  have HRT := Lib.hid (raiseT_length a ha)
  have HB0 := Lib.hid (bl_alloc (bl_alloc (bl_alloc (bl0 w) (.cells (cs64 a).toArray 56)) (.cells z56.toArray 56)) (.cells z56.toArray 56))
  have HA0 := Lib.hid (((Bk.new w (cs64 a) 56).old (.cells z56.toArray 56)).old (.cells z56.toArray 56))
  have HA1 := Lib.hid ((Bk.new w (cs64 a) 56).old (.cells z56.toArray 56))
  have HR0 : Hid (Bk (((w.alloc (.cells (cs64 a).toArray 56)).alloc (.cells z56.toArray 56)).alloc (.cells z56.toArray 56)) (w.heap.size + 1) z56) := Lib.hid (by
    have := (Bk.new (w.alloc (.cells (cs64 a).toArray 56)) z56 56).old (.cells z56.toArray 56)
    simpa using this)
  have HO0 : Hid (Bk (((w.alloc (.cells (cs64 a).toArray 56)).alloc (.cells z56.toArray 56)).alloc (.cells z56.toArray 56)) (w.heap.size + 1 + 1) z56) := Lib.hid (by
    have := Bk.new ((w.alloc (.cells (cs64 a).toArray 56)).alloc (.cells z56.toArray 56)) z56 56
    simpa using this)
  clear ha
  go_enter Try.func24, Try.ntmps24
  go_wp2_with (first | (refine wpList_alloc_z rfl 56 rfl z56 zero56 ?_) | (refine wpList_load_at rfl 56 _ rfl ⟨w.heap.size, 0, none⟩ rfl (cs64 a) _ (HA1.out.at_) Try.underlying56 rfl (by rw [HCL.out]; exact info56) ?_) | (refine wpList_store_bk rfl 56 _ _ rfl ((w.alloc (.cells (cs64 a).toArray 56)).alloc (.cells z56.toArray 56)).heap.size rfl (cs64 a) z56 rfl (Bk.new _ z56 56) (by rw [HCL.out]; exact info56) (by rw [HCL.out]; exact len_z56) (cs64_one _) ?_))
  have HA2 := Lib.hid (HA0.out.other (show w.heap.size ≠ w.heap.size + 1 + 1 by omega) (cs64 a).toArray)
  have HR2 := Lib.hid (HR0.out.other (show w.heap.size + 1 ≠ w.heap.size + 1 + 1 by omega) (cs64 a).toArray)
  have HO2 := Lib.hid (HO0.out.setRow (cs64 a))
  have HB2 := Lib.hid (bl_setRow HB0.out (show w.heap.size ≤ w.heap.size + 1 + 1 by omega) (cs64 a).toArray)
  clear HB0 HA0 HA1 HR0 HO0
  go_loopw [9] (fun v9 wr => ∃ k : Nat, k ≤ q ∧ v9 = .int .i64 (k : Int) ∧ Hid (Bk wr w.heap.size (cs64 a)) ∧ Hid (Bk wr (w.heap.size + 1) z56) ∧ Hid (Bk wr (w.heap.size + 1 + 1) (cs64 (raiseT a k))) ∧ Hid (Below w.heap.size w wr)) (fun v9 _ => q - (intOf v9).toNat)
  case atStart => exact ⟨0, by omega, rfl, HA2, HR2, HO2, HB2⟩
  case round =>
    clear HA2 HR2 HO2 HB2
    obtain ⟨k, hk, rfl, HA, HR, HO, HBW⟩ := hrel
    by_cases hlt : k < q
    · have HTM := Lib.hid (times_any (raiseT a k) a (HRT.out k) HAL.out)
      have HNX := Lib.hid (show mul4 (raiseT a k) a = raiseT a (k + 1) from rfl)
      rw [HNX.out] at HTM
      obtain ⟨Y, HY⟩ : ∃ Y, Hid (raiseT a (k + 1) = Y) := ⟨_, Lib.hid rfl⟩
      have HL1 := Lib.hid (HRL.out k)
      have HL2 := Lib.hid (HRL.out (k + 1))
      clear HNX
      generalize raiseT a k = X at HO HTM HL1
      rw [HY.out] at HTM HL2
      go_wp2_with (first | (refine wpList_load_at rfl 56 _ rfl ⟨w.heap.size + 1 + 1, 0, none⟩ rfl (cs64 X) _ (HO.out.at_) Try.underlying56 rfl (by rw [HL1.out]; exact info56) ?_) | (refine wpList_load_at rfl 56 _ rfl ⟨w.heap.size, 0, none⟩ rfl (cs64 a) _ (HA.out.at_) Try.underlying56 rfl (by rw [HCL.out]; exact info56) ?_))
      refine (HTM.out _).mono ?_; rintro e w2 ⟨rfl, hb2⟩
      have HA3 := Lib.hid (HA.out.keep hb2)
      have HR3 := Lib.hid (HR.out.keep hb2)
      have HO3 := Lib.hid (HO.out.keep hb2)
      have HB3 := Lib.hid (bl_call HBW.out hb2)
      clear hb2
      go_wp2_with (refine wpList_store_bk rfl 56 _ _ rfl (w.heap.size + 1 + 1) rfl (cs64 Y) (cs64 X) rfl HO3.out (by rw [HL2.out]; exact info56) (by rw [HL1.out, HL2.out]) (cs64_one _) ?_)
      go_roundw
      case rel => exact ⟨k + 1, by omega, by go_num, Lib.hid (HA3.out.other (by omega) _), Lib.hid (HR3.out.other (by omega) _), Lib.hid (by rw [HY.out]; exact HO3.out.setRow _), Lib.hid (bl_setRow HB3.out (by omega) _)⟩
      case measure => simp [intOf]; omega
    · obtain rfl : k = q := by omega
      have HL1 := Lib.hid (HRL.out k)
      obtain ⟨X, HX⟩ : ∃ X, Hid (raiseT a k = X) := ⟨_, Lib.hid rfl⟩
      rw [HX.out] at HO HL1
      go_wp2_with (first | (refine wpList_load_at rfl 56 _ rfl ⟨w.heap.size + 1 + 1, 0, none⟩ rfl (cs64 X) _ (HO.out.at_) Try.underlying56 rfl (by rw [HL1.out]; exact info56) ?_) | (refine wpList_store_bk rfl 56 _ _ rfl (w.heap.size + 1) rfl (cs64 X) z56 rfl HR.out (by rw [HL1.out]; exact info56) (by rw [HL1.out]; exact len_z56) (cs64_one _) ?_))
      refine ret_bk rfl (w.heap.size + 1) _ _ rfl rfl (HR.out.setRow _) Try.underlying56 rfl (by rw [HL1.out]; exact info56) ⟨?_, bl_setRow HBW.out (by omega) _⟩
      rw [HX.out]

set_option maxHeartbeats 1600000 in
theorem above_any (a b : List UInt64) (ha : a.length = 4) (hb : b.length = 4) (w : World) : Calls Try.prog 25 #[.agg (cs64 a).toArray, .agg (cs64 b).toArray] w fun e w' => e = .returned (.bool (abv a b 4)) ∧ Below w.heap.size w w' := by
  have HAS := Lib.hid (show ∀ i, i < 4 → (cs64 a)[i]? = some (.int .u64 ((a.getD i 0).toNat : Int)) from fun i hi => cells64_at a i (by omega))
  have HBS := Lib.hid (show ∀ i, i < 4 → (cs64 b)[i]? = some (.int .u64 ((b.getD i 0).toNat : Int)) from fun i hi => cells64_at b i (by omega))
  have HB0 := Lib.hid (bl_alloc (bl_alloc (bl0 w) (.cells (cs64 a).toArray 56)) (.cells (cs64 b).toArray 56))
  have HA0 := Lib.hid ((Bk.new w (cs64 a) 56).old (.cells (cs64 b).toArray 56))
  have HBB0 : Hid (Bk ((w.alloc (.cells (cs64 a).toArray 56)).alloc (.cells (cs64 b).toArray 56)) (w.heap.size + 1) (cs64 b)) := Lib.hid (by
    have := Bk.new (w.alloc (.cells (cs64 a).toArray 56)) (cs64 b) 56
    simpa using this)
  obtain ⟨R, HR0⟩ : ∃ R, Hid (abv a b 4 = R) := ⟨_, Lib.hid rfl⟩
  rw [HR0.out]
  clear ha hb
  go_enter Try.func25, Try.ntmps25
  go_wp2
  go_loopw [5] (fun v5 wr => ∃ k : Nat, k ≤ 4 ∧ v5 = .int .i64 ((k : Int) - 1) ∧ Hid (abv a b k = R) ∧ Hid (Bk wr w.heap.size (cs64 a)) ∧ Hid (Bk wr (w.heap.size + 1) (cs64 b)) ∧ Hid (Below w.heap.size w wr)) (fun v5 _ => (intOf v5 + 1).toNat)
  case atStart => exact ⟨4, by omega, rfl, HR0, HA0, HBB0, HB0⟩
  case round =>
    clear HR0 HA0 HBB0 HB0
    obtain ⟨k1, hk, rfl, HRR, HA, HB, HBW⟩ := hrel
    rcases k1 with _ | k
    · have hR : R = false := by rw [← HRR.out]; rfl
      go_wp2
      go_ret
      exact ⟨by rw [hR]; rfl, HBW.out⟩
    · rw [show ((k + 1 : Nat) : Int) - 1 = (k : Int) from by omega]
      have hx := Lib.hid (HAS.out k (by omega))
      have hy := Lib.hid (HBS.out k (by omega))
      have HN := Lib.hid (show (if a.getD k 0 ≠ b.getD k 0 then decide (b.getD k 0 < a.getD k 0) else abv a b k) = R from by rw [← HRR.out]; rfl)
      clear HRR
      generalize a.getD k 0 = x at hx HN
      generalize b.getD k 0 = y at hy HN
      have hR := Sm.stays
      by_cases hxy : x = y
      · have hne : decide (x ≠ y) = false := by simp [hxy]
        have HN2 : Hid (abv a b k = R) := Lib.hid (by rw [← HN.out, if_neg (by simp [hxy])])
        go_wp2_with fail
        refine reg_start Sm follows_mixed ?_
-- region 4 of f25: 7 operations, draws: true
        refine reg_take (v := ?_) hR 0 rfl (by kernel_rfl) (by kernel_rfl) (by kernel_rfl) (fun _ _ _ h => h) (by rfl) ?_ ?_
        rotate_left
        · intro W hW; go_simp; try with_reducible rfl
        try simp only [Act.put, List.getElem_toArray, List.getElem_cons_succ, List.getElem_cons_zero, List.setIfInBounds_toArray, List.set_cons_zero, List.set_cons_succ]
        refine reg_take (v := .pointer (some ⟨w.heap.size, k, none⟩)) hR 1 rfl (by kernel_rfl) (by kernel_rfl) (by kernel_rfl) (fun _ _ _ h => h) (by rfl) ?_ ?_
        · intro W hW; exact exec_at64 56 _ _ rfl Try.underlying56 rfl rfl (by omega)
        try simp only [Act.put, List.getElem_toArray, List.getElem_cons_succ, List.getElem_cons_zero, List.setIfInBounds_toArray, List.set_cons_zero, List.set_cons_succ]
        refine reg_take (v := .int .u64 (x.toNat : Int)) hR 2 rfl (by kernel_rfl) (by kernel_rfl) (by kernel_rfl) (fun _ _ _ h => h) (by rfl) ?_ ?_
        · intro W hW; rw [show W = _ from hW]; exact exec_load_cell 24 _ rfl Try.isAgg24 rfl (HA.out.drew.cell hx.out)
        try simp only [Act.put, List.getElem_toArray, List.getElem_cons_succ, List.getElem_cons_zero, List.setIfInBounds_toArray, List.set_cons_zero, List.set_cons_succ]
        refine reg_take (v := ?_) hR 3 rfl (by kernel_rfl) (by kernel_rfl) (by kernel_rfl) (fun _ _ _ h => h) (by rfl) ?_ ?_
        rotate_left
        · intro W hW; go_simp; try with_reducible rfl
        try simp only [Act.put, List.getElem_toArray, List.getElem_cons_succ, List.getElem_cons_zero, List.setIfInBounds_toArray, List.set_cons_zero, List.set_cons_succ]
        refine reg_take (v := .pointer (some ⟨w.heap.size + 1, k, none⟩)) hR 4 rfl (by kernel_rfl) (by kernel_rfl) (by kernel_rfl) (fun _ _ _ h => h) (by rfl) ?_ ?_
        · intro W hW; exact exec_at64 56 _ _ rfl Try.underlying56 rfl rfl (by omega)
        try simp only [Act.put, List.getElem_toArray, List.getElem_cons_succ, List.getElem_cons_zero, List.setIfInBounds_toArray, List.set_cons_zero, List.set_cons_succ]
        refine reg_take (v := .int .u64 (y.toNat : Int)) hR 5 rfl (by kernel_rfl) (by kernel_rfl) (by kernel_rfl) (fun _ _ _ h => h) (by rfl) ?_ ?_
        · intro W hW; rw [show W = _ from hW]; exact exec_load_cell 24 _ rfl Try.isAgg24 rfl (HB.out.drew.cell hy.out)
        try simp only [Act.put, List.getElem_toArray, List.getElem_cons_succ, List.getElem_cons_zero, List.setIfInBounds_toArray, List.set_cons_zero, List.set_cons_succ]
        refine reg_take (v := .bool (decide (x ≠ y))) hR 6 rfl (by kernel_rfl) (by kernel_rfl) (by kernel_rfl) (fun _ _ _ h => h) (by rfl) ?_ ?_
        · intro W hW; exact exec_ne64 _ _ rfl rfl rfl
        try simp only [Act.put, List.getElem_toArray, List.getElem_cons_succ, List.getElem_cons_zero, List.setIfInBounds_toArray, List.set_cons_zero, List.set_cons_succ]
        refine reg_done (by kernel_rfl) ?_ _

        rw [hne]
        go_wp2
        go_roundw
        case rel => exact ⟨k, by omega, by go_num, HN2, Lib.hid HA.out.drew, Lib.hid HB.out.drew, Lib.hid HBW.out.drew⟩
        case measure => simp [intOf] <;> omega
      · have hne : decide (x ≠ y) = true := by simp [hxy]
        have HN2 : Hid (decide (y < x) = R) := Lib.hid (by rw [← HN.out, if_pos hxy])
        go_wp2_with fail
        refine reg_start Sm follows_mixed ?_
-- region 4 of f25: 7 operations, draws: true
        refine reg_take (v := ?_) hR 0 rfl (by kernel_rfl) (by kernel_rfl) (by kernel_rfl) (fun _ _ _ h => h) (by rfl) ?_ ?_
        rotate_left
        · intro W hW; go_simp; try with_reducible rfl
        try simp only [Act.put, List.getElem_toArray, List.getElem_cons_succ, List.getElem_cons_zero, List.setIfInBounds_toArray, List.set_cons_zero, List.set_cons_succ]
        refine reg_take (v := .pointer (some ⟨w.heap.size, k, none⟩)) hR 1 rfl (by kernel_rfl) (by kernel_rfl) (by kernel_rfl) (fun _ _ _ h => h) (by rfl) ?_ ?_
        · intro W hW; exact exec_at64 56 _ _ rfl Try.underlying56 rfl rfl (by omega)
        try simp only [Act.put, List.getElem_toArray, List.getElem_cons_succ, List.getElem_cons_zero, List.setIfInBounds_toArray, List.set_cons_zero, List.set_cons_succ]
        refine reg_take (v := .int .u64 (x.toNat : Int)) hR 2 rfl (by kernel_rfl) (by kernel_rfl) (by kernel_rfl) (fun _ _ _ h => h) (by rfl) ?_ ?_
        · intro W hW; rw [show W = _ from hW]; exact exec_load_cell 24 _ rfl Try.isAgg24 rfl (HA.out.drew.cell hx.out)
        try simp only [Act.put, List.getElem_toArray, List.getElem_cons_succ, List.getElem_cons_zero, List.setIfInBounds_toArray, List.set_cons_zero, List.set_cons_succ]
        refine reg_take (v := ?_) hR 3 rfl (by kernel_rfl) (by kernel_rfl) (by kernel_rfl) (fun _ _ _ h => h) (by rfl) ?_ ?_
        rotate_left
        · intro W hW; go_simp; try with_reducible rfl
        try simp only [Act.put, List.getElem_toArray, List.getElem_cons_succ, List.getElem_cons_zero, List.setIfInBounds_toArray, List.set_cons_zero, List.set_cons_succ]
        refine reg_take (v := .pointer (some ⟨w.heap.size + 1, k, none⟩)) hR 4 rfl (by kernel_rfl) (by kernel_rfl) (by kernel_rfl) (fun _ _ _ h => h) (by rfl) ?_ ?_
        · intro W hW; exact exec_at64 56 _ _ rfl Try.underlying56 rfl rfl (by omega)
        try simp only [Act.put, List.getElem_toArray, List.getElem_cons_succ, List.getElem_cons_zero, List.setIfInBounds_toArray, List.set_cons_zero, List.set_cons_succ]
        refine reg_take (v := .int .u64 (y.toNat : Int)) hR 5 rfl (by kernel_rfl) (by kernel_rfl) (by kernel_rfl) (fun _ _ _ h => h) (by rfl) ?_ ?_
        · intro W hW; rw [show W = _ from hW]; exact exec_load_cell 24 _ rfl Try.isAgg24 rfl (HB.out.drew.cell hy.out)
        try simp only [Act.put, List.getElem_toArray, List.getElem_cons_succ, List.getElem_cons_zero, List.setIfInBounds_toArray, List.set_cons_zero, List.set_cons_succ]
        refine reg_take (v := .bool (decide (x ≠ y))) hR 6 rfl (by kernel_rfl) (by kernel_rfl) (by kernel_rfl) (fun _ _ _ h => h) (by rfl) ?_ ?_
        · intro W hW; exact exec_ne64 _ _ rfl rfl rfl
        try simp only [Act.put, List.getElem_toArray, List.getElem_cons_succ, List.getElem_cons_zero, List.setIfInBounds_toArray, List.set_cons_zero, List.set_cons_succ]
        refine reg_done (by kernel_rfl) ?_ _

        rw [hne]
        have HA := Lib.hid HA.out.drew
        have HB := Lib.hid HB.out.drew
        go_wp2_with fail
        refine reg_start Sm follows_mixed ?_
-- region 5 of f25: 8 operations, draws: true
        refine reg_take (v := ?_) hR 0 rfl (by kernel_rfl) (by kernel_rfl) (by kernel_rfl) (fun _ _ _ h => h) (by rfl) ?_ ?_
        rotate_left
        · intro W hW; go_simp; try with_reducible rfl
        try simp only [Act.put, List.getElem_toArray, List.getElem_cons_succ, List.getElem_cons_zero, List.setIfInBounds_toArray, List.set_cons_zero, List.set_cons_succ]
        refine reg_take (v := .pointer (some ⟨w.heap.size, k, none⟩)) hR 1 rfl (by kernel_rfl) (by kernel_rfl) (by kernel_rfl) (fun _ _ _ h => h) (by rfl) ?_ ?_
        · intro W hW; exact exec_at64 56 _ _ rfl Try.underlying56 rfl rfl (by omega)
        try simp only [Act.put, List.getElem_toArray, List.getElem_cons_succ, List.getElem_cons_zero, List.setIfInBounds_toArray, List.set_cons_zero, List.set_cons_succ]
        refine reg_take (v := .int .u64 (x.toNat : Int)) hR 2 rfl (by kernel_rfl) (by kernel_rfl) (by kernel_rfl) (fun _ _ _ h => h) (by rfl) ?_ ?_
        · intro W hW; rw [show W = _ from hW]; exact exec_load_cell 24 _ rfl Try.isAgg24 rfl (HA.out.drew.cell hx.out)
        try simp only [Act.put, List.getElem_toArray, List.getElem_cons_succ, List.getElem_cons_zero, List.setIfInBounds_toArray, List.set_cons_zero, List.set_cons_succ]
        refine reg_take (v := ?_) hR 3 rfl (by kernel_rfl) (by kernel_rfl) (by kernel_rfl) (fun _ _ _ h => h) (by rfl) ?_ ?_
        rotate_left
        · intro W hW; go_simp; try with_reducible rfl
        try simp only [Act.put, List.getElem_toArray, List.getElem_cons_succ, List.getElem_cons_zero, List.setIfInBounds_toArray, List.set_cons_zero, List.set_cons_succ]
        refine reg_take (v := .pointer (some ⟨w.heap.size + 1, k, none⟩)) hR 4 rfl (by kernel_rfl) (by kernel_rfl) (by kernel_rfl) (fun _ _ _ h => h) (by rfl) ?_ ?_
        · intro W hW; exact exec_at64 56 _ _ rfl Try.underlying56 rfl rfl (by omega)
        try simp only [Act.put, List.getElem_toArray, List.getElem_cons_succ, List.getElem_cons_zero, List.setIfInBounds_toArray, List.set_cons_zero, List.set_cons_succ]
        refine reg_take (v := .int .u64 (y.toNat : Int)) hR 5 rfl (by kernel_rfl) (by kernel_rfl) (by kernel_rfl) (fun _ _ _ h => h) (by rfl) ?_ ?_
        · intro W hW; rw [show W = _ from hW]; exact exec_load_cell 24 _ rfl Try.isAgg24 rfl (HB.out.drew.cell hy.out)
        try simp only [Act.put, List.getElem_toArray, List.getElem_cons_succ, List.getElem_cons_zero, List.setIfInBounds_toArray, List.set_cons_zero, List.set_cons_succ]
        refine reg_take (v := .bool (decide (y < x))) hR 6 rfl (by kernel_rfl) (by kernel_rfl) (by kernel_rfl) (fun _ _ _ h => h) (by rfl) ?_ ?_
        · intro W hW; exact exec_gt64 _ _ rfl rfl rfl
        try simp only [Act.put, List.getElem_toArray, List.getElem_cons_succ, List.getElem_cons_zero, List.setIfInBounds_toArray, List.set_cons_zero, List.set_cons_succ]
        refine reg_take (v := ?_) hR 7 rfl (by kernel_rfl) (by kernel_rfl) (by kernel_rfl) (fun _ _ _ h => h) (by rfl) ?_ ?_
        rotate_left
        · intro W hW; go_simp; try with_reducible rfl
        try simp only [Act.put, List.getElem_toArray, List.getElem_cons_succ, List.getElem_cons_zero, List.setIfInBounds_toArray, List.set_cons_zero, List.set_cons_succ]
        refine reg_done (by kernel_rfl) ?_ _

        rw [HN2.out]
        go_wp2
        go_ret
        exact ⟨rfl, HBW.out.drew.drew⟩
end Go.Proofs.Ytgpgolegedfjfaa
