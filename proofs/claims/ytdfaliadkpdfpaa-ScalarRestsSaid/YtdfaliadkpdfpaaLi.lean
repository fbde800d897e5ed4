/- The examples of the chapter that each statement begins with. -/
import Derived.Test.YtdfaliadkpdfpaaEq
namespace Go.Proofs.Ytdfaliadkpdfpaa
set_option linter.unusedSimpArgs false
set_option linter.unusedVariables false
open Go.RowKit

/-- make([]byte, C). -/
theorem wpList_makeN {w : World} {ops : Array Oper} {rest : List Oper} {o : Oper} {a : Act} {Q : Exit → Act → World → Prop} (hgd : o.guard = none) (C : Nat)
    (ho : o.op = Op.makeSlice 22 (.const (.int .i64 (C : Int))) (.const (.int .i64 (C : Int)))) (h1 : C ≤ 1000000)
    (h : wpList Try.prog ops Q rest (a.put o.dst (.slice (some ⟨w.heap.size, 0, none⟩) C C)) (w.alloc (.cells (madeCells (Value.int .u8 0).cells C) 5))) : wpList Try.prog ops Q (o :: rest) a w := by
  obtain ⟨i, hi, hz0, hz1, hz2⟩ := info_parts info_u8
  refine wpList_plain hgd fun K hK => ?_
  have hr := run_make (P := Try.prog) w 22 5 i (.int .u8 0) Try.underlying22 hi hz0 .i64 .i64 (C : Int) (C : Int) (by omega) (Int.le_refl _) (by rw [hz2]; omega) (by omega)
  rw [hz1, Nat.mul_one, Int.toNat_natCast] at hr
  have hl : a.eval (.const (.int .i64 (C : Int))) = .int .i64 (C : Int) := rfl
  unfold Oper.wp execOp
  simp only [ho, hl, hr, Sem.run_bind, Result.andThen_ok, Sem.run_pure]
  exact hK _ _ h

set_option maxHeartbeats 1600000 in
set_option maxRecDepth 8192 in
theorem lives_any (w : World) : Calls Try.prog 5 #[] w fun e w' => e = .returned (.bool true) ∧ Below w.heap.size w w' := by
  have HB := Lib.hid (bl0 w)
  go_enter Try.func5, Try.ntmps5
  go_wp2_with fail
  refine (L_any _).mono ?_; rintro e u1 ⟨rfl, hb⟩
  have HB := Lib.hid (bl_call HB.out hb)
  clear hb
  have HT := Lib.hid (Bk.new u1 z25 25)
  have HN := Lib.hid (num_info (LL))
  go_wp2_with (first | (refine wpList_alloc_z rfl 25 rfl z25 zero25 ?_) | (refine wpList_store_bk rfl 25 _ _ rfl u1.heap.size rfl (cs8 (le 32 (LL))) z25 rfl HT.out HN.out (num_zlen _) (cs8_all _) ?_) | fail)
  obtain ⟨v1, b1, e1, e2, H1, hold, hbl⟩ := nv_ex u1 (LL)
  rw [e1, e2]
  clear e1 e2
  have H1 := Lib.hid H1
  have HB := Lib.hid (bl_call HB.out hbl)
  clear hold hbl
  have hr := Rest_blk LL LL_big b1 v1 H1.out
  rw [Nat.mod_self] at hr
  refine (hr).mono ?_; rintro e u2 ⟨rfl, hb⟩
  have H1 := Lib.hid (H1.out.keep hb)
  have HB := Lib.hid (bl_call HB.out hb)
  clear hb
  clear hr
  have HT := Lib.hid (Bk.new u2 z25 25)
  have HN := Lib.hid (num_info (0))
  go_wp2_with (first | (refine wpList_alloc_z rfl 25 rfl z25 zero25 ?_) | (refine wpList_store_bk rfl 25 _ _ rfl u2.heap.size rfl (cs8 (le 32 (0))) z25 rfl HT.out HN.out (num_zlen _) (cs8_all _) ?_) | fail)
  obtain ⟨v2, b2, e1, e2, H2, hold, hbl⟩ := nv_ex u2 (0)
  rw [e1, e2]
  clear e1 e2
  have H2 := Lib.hid H2
  have hn1_2 := (hold _ _ H1.out).2
  have H1 := Lib.hid (hold _ _ H1.out).1
  have HB := Lib.hid (bl_call HB.out hbl)
  clear hold hbl
  refine (small_any 1 (by omega) _).mono ?_; rintro e u3 ⟨rfl, hb⟩
  have H1 := Lib.hid (H1.out.keep hb)
  have H2 := Lib.hid (H2.out.keep hb)
  have HB := Lib.hid (bl_call HB.out hb)
  clear hb
  go_wp2_with fail
  have hr := Neg_any 1 (by decide) u3
  rw [show (LL - 1 % LL) % LL = LL - 1 by decide] at hr
  refine (hr).mono ?_; rintro e u4 ⟨rfl, hb⟩
  have H1 := Lib.hid (H1.out.keep hb)
  have H2 := Lib.hid (H2.out.keep hb)
  have HB := Lib.hid (bl_call HB.out hb)
  clear hb
  clear hr
  have HT := Lib.hid (Bk.new u4 z25 25)
  have HN := Lib.hid (num_info (LL - 1))
  go_wp2_with (first | (at_make; refine wpList_makeN rfl 65 rfl (by omega) ?_) | (refine wpList_alloc_z rfl 25 rfl z25 zero25 ?_) | (refine wpList_store_bk rfl 25 _ _ rfl u4.heap.size rfl (cs8 (le 32 (LL - 1))) z25 rfl HT.out HN.out (num_zlen _) (cs8_all _) ?_) | fail)
  obtain ⟨v4, b4, e1, e2, H4, hold, hbl⟩ := nv_ex u4 (LL - 1)
  rw [e1, e2]
  clear e1 e2
  have H4 := Lib.hid H4
  have hn1_4 := (hold _ _ H1.out).2
  have H1 := Lib.hid (hold _ _ H1.out).1
  have hn2_4 := (hold _ _ H2.out).2
  have H2 := Lib.hid (hold _ _ H2.out).1
  have HB := Lib.hid (bl_call HB.out hbl)
  clear hold hbl
  have HN := Lib.hid (num_info 0)
  have hbm := bl_alloc (bl0 v4) (.cells (madeCells (Value.int .u8 0).cells 65) 5)
  refine (Rest_long _ 65 65 (by omega) _).mono ?_; rintro e u5 ⟨rfl, hb⟩
  have H1 := Lib.hid ((H1.out.keep hbm).keep hb)
  have H2 := Lib.hid ((H2.out.keep hbm).keep hb)
  have H4 := Lib.hid ((H4.out.keep hbm).keep hb)
  have HB := Lib.hid (bl_call (bl_call HB.out hbm) hb)
  clear hb hbm
  have HT := Lib.hid (Bk.new u5 z25 25)
  go_wp2_with (first | (refine wpList_alloc_z rfl 25 rfl z25 zero25 ?_) | (refine wpList_store_bk rfl 25 _ _ rfl u5.heap.size rfl (cs8 (le 32 0)) z25 rfl HT.out HN.out (num_zlen _) (cs8_all _) ?_) | fail)
  obtain ⟨v5, b5, e1, e2, H5, hold, hbl⟩ := nv_ex u5 0
  rw [e1, e2]
  clear e1 e2 H5
  have H2 := Lib.hid (hold _ _ H2.out).1
  have H4 := Lib.hid (hold _ _ H4.out).1
  have HB := Lib.hid (bl_call HB.out hbl)
  clear hold hbl HT HN
  have hR := Old.stays
  refine reg_start Old follows_mixed ?_
  have HB := Lib.hid HB.out.drew
-- region 5 of f5: 19 operations, draws: true
  refine reg_take (v := ?_) hR 0 rfl (by kernel_rfl) (by kernel_rfl) (by kernel_rfl) (fun _ _ _ h => h) (by rfl) ?_ ?_
  rotate_left
  · intro W hW; go_simp; try with_reducible rfl
  try simp only [Act.put, List.getElem_toArray, List.getElem_cons_succ, List.getElem_cons_zero, List.setIfInBounds_toArray, List.set_cons_zero, List.set_cons_succ]
  refine reg_take (v := ?_) hR 1 rfl (by kernel_rfl) (by kernel_rfl) (by kernel_rfl) (fun _ _ _ h => h) (by rfl) ?_ ?_
  rotate_left
  · intro W hW; go_simp; try with_reducible rfl
  try simp only [Act.put, List.getElem_toArray, List.getElem_cons_succ, List.getElem_cons_zero, List.setIfInBounds_toArray, List.set_cons_zero, List.set_cons_succ]
  refine reg_take (v := ?_) hR 2 rfl (by kernel_rfl) (by kernel_rfl) (by kernel_rfl) (fun _ _ _ h => h) (by rfl) ?_ ?_
  rotate_left
  · intro W hW; go_simp; try with_reducible rfl
  try simp only [Act.put, List.getElem_toArray, List.getElem_cons_succ, List.getElem_cons_zero, List.setIfInBounds_toArray, List.set_cons_zero, List.set_cons_succ]
  refine reg_take (v := num (0)) hR 3 rfl (by kernel_rfl) (by kernel_rfl) (by kernel_rfl) (fun _ _ _ h => h) (by rfl) ?_ ?_
  · intro W hW; exact exec_load_at 25 _ rfl ⟨b2, 0, none⟩ rfl (cs8 (le 32 (0))) _ (H2.out.drew.keep hW).at_ Try.underlying25 rfl (num_info _)
  try simp only [Act.put, List.getElem_toArray, List.getElem_cons_succ, List.getElem_cons_zero, List.setIfInBounds_toArray, List.set_cons_zero, List.set_cons_succ]
  refine reg_take (v := num 0) hR 4 rfl (by kernel_rfl) (by kernel_rfl) (by kernel_rfl) (fun _ _ _ h => h) (by rfl) ?_ ?_
  · intro W hW; go_simp; rfl
  try simp only [Act.put, List.getElem_toArray, List.getElem_cons_succ, List.getElem_cons_zero, List.setIfInBounds_toArray, List.set_cons_zero, List.set_cons_succ]
  refine reg_take (v := .bool (decide (0 = 0))) hR 5 rfl (by kernel_rfl) (by kernel_rfl) (by kernel_rfl) (fun _ _ _ h => h) (by rfl) ?_ ?_
  · intro W hW; exact exec_eqnum _ _ rfl (by decide) (by decide) rfl rfl
  try simp only [Act.put, List.getElem_toArray, List.getElem_cons_succ, List.getElem_cons_zero, List.setIfInBounds_toArray, List.set_cons_zero, List.set_cons_succ]
  refine reg_take (v := ?_) hR 6 rfl (by kernel_rfl) (by kernel_rfl) (by kernel_rfl) (fun _ _ _ h => h) (by rfl) ?_ ?_
  rotate_left
  · intro W hW; go_simp; try with_reducible rfl
  try simp only [Act.put, List.getElem_toArray, List.getElem_cons_succ, List.getElem_cons_zero, List.setIfInBounds_toArray, List.set_cons_zero, List.set_cons_succ]
  refine reg_take (v := ?_) hR 7 rfl (by kernel_rfl) (by kernel_rfl) (by kernel_rfl) (fun _ _ _ h => h) (by rfl) ?_ ?_
  rotate_left
  · intro W hW; go_simp; try with_reducible rfl
  try simp only [Act.put, List.getElem_toArray, List.getElem_cons_succ, List.getElem_cons_zero, List.setIfInBounds_toArray, List.set_cons_zero, List.set_cons_succ]
  refine reg_take (v := num (LL - 1)) hR 8 rfl (by kernel_rfl) (by kernel_rfl) (by kernel_rfl) (fun _ _ _ h => h) (by rfl) ?_ ?_
  · intro W hW; exact exec_load_at 25 _ rfl ⟨b4, 0, none⟩ rfl (cs8 (le 32 (LL - 1))) _ (H4.out.drew.keep hW).at_ Try.underlying25 rfl (num_info _)
  try simp only [Act.put, List.getElem_toArray, List.getElem_cons_succ, List.getElem_cons_zero, List.setIfInBounds_toArray, List.set_cons_zero, List.set_cons_succ]
  -- STEP 9: Op.call { callee := Callee.value (Operand.func 8), args := #[Operand.const (Value.int IntKind.u64 2)], argType
  refine reg_step hR 9 (by kernel_rfl) rfl fun K hK => ?_
  try simp only [Act.put, List.getElem_toArray, List.getElem_cons_succ, List.getElem_cons_zero, List.setIfInBounds_toArray, List.set_cons_zero, List.set_cons_succ]
  go_simp
  refine (small_any 2 (by omega) _).mono ?_; rintro e x1 ⟨rfl, hb⟩
  refine hK.out _ _ ?_ ?_
  · exact hb
  have HB := Lib.hid (bl_call HB.out hb)
  clear hb
  clear hK K
  try simp only [Act.put, List.getElem_toArray, List.getElem_cons_succ, List.getElem_cons_zero, List.setIfInBounds_toArray, List.set_cons_zero, List.set_cons_succ]
  -- STEP 10: Op.call { callee := Callee.value (Operand.func 10), args := #[t28, t29], argTypes := #[25, 25] }
  refine reg_step hR 10 (by kernel_rfl) rfl fun K hK => ?_
  try simp only [Act.put, List.getElem_toArray, List.getElem_cons_succ, List.getElem_cons_zero, List.setIfInBounds_toArray, List.set_cons_zero, List.set_cons_succ]
  go_simp
  refine (Add_any (LL - 1) 2 (by decide) (by decide) _).mono ?_; rintro e x2 ⟨rfl, hb⟩
  refine hK.out _ _ ?_ ?_
  · exact hb
  have HB := Lib.hid (bl_call HB.out hb)
  clear hb
  rw [show (LL - 1 + 2) % LL = 1 by decide]
  clear hK K
  try simp only [Act.put, List.getElem_toArray, List.getElem_cons_succ, List.getElem_cons_zero, List.setIfInBounds_toArray, List.set_cons_zero, List.set_cons_succ]
  -- STEP 11: Op.call { callee := Callee.value (Operand.func 8), args := #[Operand.const (Value.int IntKind.u64 1)], argType
  refine reg_step hR 11 (by kernel_rfl) rfl fun K hK => ?_
  try simp only [Act.put, List.getElem_toArray, List.getElem_cons_succ, List.getElem_cons_zero, List.setIfInBounds_toArray, List.set_cons_zero, List.set_cons_succ]
  go_simp
  refine (small_any 1 (by omega) _).mono ?_; rintro e x3 ⟨rfl, hb⟩
  refine hK.out _ _ ?_ ?_
  · exact hb
  have HB := Lib.hid (bl_call HB.out hb)
  clear hb
  clear hK K
  try simp only [Act.put, List.getElem_toArray, List.getElem_cons_succ, List.getElem_cons_zero, List.setIfInBounds_toArray, List.set_cons_zero, List.set_cons_succ]
  refine reg_take (v := .bool (decide (1 = 1))) hR 12 rfl (by kernel_rfl) (by kernel_rfl) (by kernel_rfl) (fun _ _ _ h => h) (by rfl) ?_ ?_
  · intro W hW; exact exec_eqnum _ _ rfl (by decide) (by decide) rfl rfl
  try simp only [Act.put, List.getElem_toArray, List.getElem_cons_succ, List.getElem_cons_zero, List.setIfInBounds_toArray, List.set_cons_zero, List.set_cons_succ]
  refine reg_take (v := ?_) hR 13 rfl (by kernel_rfl) (by kernel_rfl) (by kernel_rfl) (fun _ _ _ h => h) (by rfl) ?_ ?_
  rotate_left
  · intro W hW; go_simp; try with_reducible rfl
  try simp only [Act.put, List.getElem_toArray, List.getElem_cons_succ, List.getElem_cons_zero, List.setIfInBounds_toArray, List.set_cons_zero, List.set_cons_succ]
  refine reg_take (v := ?_) hR 14 rfl (by kernel_rfl) (by kernel_rfl) (by kernel_rfl) (fun _ _ _ h => h) (by rfl) ?_ ?_
  rotate_left
  · intro W hW; go_simp; try with_reducible rfl
  try simp only [Act.put, List.getElem_toArray, List.getElem_cons_succ, List.getElem_cons_zero, List.setIfInBounds_toArray, List.set_cons_zero, List.set_cons_succ]
  refine reg_take (v := ?_) hR 15 rfl (by kernel_rfl) (by kernel_rfl) (by kernel_rfl) (fun _ _ _ h => h) (by rfl) ?_ ?_
  rotate_left
  · intro W hW; go_simp; try with_reducible rfl
  try simp only [Act.put, List.getElem_toArray, List.getElem_cons_succ, List.getElem_cons_zero, List.setIfInBounds_toArray, List.set_cons_zero, List.set_cons_succ]
  refine reg_take (v := ?_) hR 16 rfl (by kernel_rfl) (by kernel_rfl) (by kernel_rfl) (fun _ _ _ h => h) (by rfl) ?_ ?_
  rotate_left
  · intro W hW; go_simp; try with_reducible rfl
  try simp only [Act.put, List.getElem_toArray, List.getElem_cons_succ, List.getElem_cons_zero, List.setIfInBounds_toArray, List.set_cons_zero, List.set_cons_succ]
  refine reg_take (v := ?_) hR 17 rfl (by kernel_rfl) (by kernel_rfl) (by kernel_rfl) (fun _ _ _ h => h) (by rfl) ?_ ?_
  rotate_left
  · intro W hW; go_simp; try with_reducible rfl
  try simp only [Act.put, List.getElem_toArray, List.getElem_cons_succ, List.getElem_cons_zero, List.setIfInBounds_toArray, List.set_cons_zero, List.set_cons_succ]
  refine reg_take (v := ?_) hR 18 rfl (by kernel_rfl) (by kernel_rfl) (by kernel_rfl) (fun _ _ _ h => h) (by rfl) ?_ ?_
  rotate_left
  · intro W hW; go_simp; try with_reducible rfl
  try simp only [Act.put, List.getElem_toArray, List.getElem_cons_succ, List.getElem_cons_zero, List.setIfInBounds_toArray, List.set_cons_zero, List.set_cons_succ]
  refine reg_done (by kernel_rfl) ?_ _

  go_wp2
  go_ret
  exact ⟨rfl, HB.out⟩
end Go.Proofs.Ytdfaliadkpdfpaa
