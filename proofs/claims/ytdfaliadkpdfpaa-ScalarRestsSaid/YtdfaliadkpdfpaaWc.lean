/- Numbers of words added. -/
import Derived.Test.YtdfaliadkpdfpaaWb
namespace Go.Proofs.Ytdfaliadkpdfpaa
set_option linter.unusedSimpArgs false
set_option linter.unusedVariables false
open Go.RowKit
theorem Bk.of_eq {w : World} {g : Nat} {cs cs' : List Value} (h : Bk w g cs) (e : cs' = cs) : Bk w g cs' := by rw [e]; exact h

set_option maxHeartbeats 1600000 in
set_option maxRecDepth 8192 in
theorem add_any (a b : Nat) (g k : Nat) (w : World) (hab : a + b < 2 * LL) (hA : Bk w g (cs64 (wd a))) (hK : Bk w k (cs64 (wd b))) :
    Calls Try.prog 16 #[.pointer (some ⟨g, 0, none⟩), .pointer (some ⟨k, 0, none⟩)] w fun e w' => (∃ v, e = .returned v) ∧ Bk w' g (cs64 (wd ((a + b) % LL))) ∧ Kp (· = g) w w' := by
  obtain ⟨s3, o3, s2, o2, s1, o1, e3, f3, h2, e2, f2, h1, e1, f1, h0, eW⟩ := add_words a b
  have HW := Lib.hid eW
  clear eW
  have hP0 := (Kp.stays (· = g)).refl w
  have ca3 := hA.drew.cell (k := 3) rfl
  have ca2 := hA.drew.cell (k := 2) rfl
  have ca1 := hA.drew.cell (k := 1) rfl
  have ca0 := hA.drew.cell (k := 0) rfl
  have cb3 := hK.drew.cell (k := 3) rfl
  have cb2 := hK.drew.cell (k := 2) rfl
  have cb1 := hK.drew.cell (k := 1) rfl
  have cb0 := hK.drew.cell (k := 0) rfl
  have hB0 : Bk w g [.int .u64 _, .int .u64 _, .int .u64 _, .int .u64 _] := hA
  simp only [B64] at ca3 ca2 ca1 ca0 cb3 cb2 cb1 cb0
  clear hA hK
  generalize UInt64.ofNat (a / 18446744073709551616 / 18446744073709551616 / 18446744073709551616) = a0 at *
  generalize UInt64.ofNat (b / 18446744073709551616 / 18446744073709551616 / 18446744073709551616) = b0 at *
  generalize UInt64.ofNat (a / 18446744073709551616 / 18446744073709551616) = a1 at *
  generalize UInt64.ofNat (b / 18446744073709551616 / 18446744073709551616) = b1 at *
  generalize UInt64.ofNat (a / 18446744073709551616) = a2 at *
  generalize UInt64.ofNat (b / 18446744073709551616) = b2 at *
  generalize UInt64.ofNat a = a3 at *
  generalize UInt64.ofNat b = b3 at *
  go_enter Try.func16, Try.ntmps16
  go_wp2_with fail
  have hR := Kp.stays (· = g)
  refine reg_start (Kp (· = g)) follows_mixed ?_
-- region 1 of f16: 17 operations, draws: true
  refine reg_take (v := ?_) hR 0 rfl (by kernel_rfl) (by kernel_rfl) (by kernel_rfl) (fun _ _ _ h => h) (by rfl) ?_ ?_
  rotate_left
  · intro W hW; go_simp; try with_reducible rfl
  try simp only [Act.put, List.getElem_toArray, List.getElem_cons_succ, List.getElem_cons_zero, List.setIfInBounds_toArray, List.set_cons_zero, List.set_cons_succ]
  refine reg_take (v := ?_) hR 1 rfl (by kernel_rfl) (by kernel_rfl) (by kernel_rfl) (fun _ _ _ h => h) (by rfl) ?_ ?_
  rotate_left
  · intro W hW; go_simp; try with_reducible rfl
  try simp only [Act.put, List.getElem_toArray, List.getElem_cons_succ, List.getElem_cons_zero, List.setIfInBounds_toArray, List.set_cons_zero, List.set_cons_succ]
  refine reg_take (v := ?_) hR 2 rfl (by kernel_rfl) (by kernel_rfl) (by kernel_rfl) (fun _ _ _ h => h) (by rfl) ?_ ?_
  rotate_left
  · intro W hW; go_simp; try with_reducible rfl
  try simp only [Act.put, List.getElem_toArray, List.getElem_cons_succ, List.getElem_cons_zero, List.setIfInBounds_toArray, List.set_cons_zero, List.set_cons_succ]
  refine reg_take (v := .pointer (some ⟨g, 3, none⟩)) hR 3 rfl (by kernel_rfl) (by kernel_rfl) (by kernel_rfl) (fun _ _ _ h => h) (by rfl) ?_ ?_
  · intro W hW; exact exec_at64 40 _ _ rfl Try.underlying40 rfl rfl (by omega)
  try simp only [Act.put, List.getElem_toArray, List.getElem_cons_succ, List.getElem_cons_zero, List.setIfInBounds_toArray, List.set_cons_zero, List.set_cons_succ]
  refine reg_take (v := ?_) hR 5 rfl (by kernel_rfl) (by kernel_rfl) (by kernel_rfl) (fun _ _ _ h => h) (by rfl) ?_ ?_
  rotate_left
  · intro W hW; go_simp; try with_reducible rfl
  try simp only [Act.put, List.getElem_toArray, List.getElem_cons_succ, List.getElem_cons_zero, List.setIfInBounds_toArray, List.set_cons_zero, List.set_cons_succ]
  refine reg_take (v := ?_) hR 6 rfl (by kernel_rfl) (by kernel_rfl) (by kernel_rfl) (fun _ _ _ h => h) (by rfl) ?_ ?_
  rotate_left
  · intro W hW; go_simp; try with_reducible rfl
  try simp only [Act.put, List.getElem_toArray, List.getElem_cons_succ, List.getElem_cons_zero, List.setIfInBounds_toArray, List.set_cons_zero, List.set_cons_succ]
  refine reg_take (v := .pointer (some ⟨k, 3, none⟩)) hR 7 rfl (by kernel_rfl) (by kernel_rfl) (by kernel_rfl) (fun _ _ _ h => h) (by rfl) ?_ ?_
  · intro W hW; exact exec_at64 40 _ _ rfl Try.underlying40 rfl rfl (by omega)
  try simp only [Act.put, List.getElem_toArray, List.getElem_cons_succ, List.getElem_cons_zero, List.setIfInBounds_toArray, List.set_cons_zero, List.set_cons_succ]
  refine reg_take (v := ?_) hR 13 rfl (by kernel_rfl) (by kernel_rfl) (by kernel_rfl) (fun _ _ _ h => h) (by rfl) ?_ ?_
  rotate_left
  · intro W hW; go_simp; try with_reducible rfl
  try simp only [Act.put, List.getElem_toArray, List.getElem_cons_succ, List.getElem_cons_zero, List.setIfInBounds_toArray, List.set_cons_zero, List.set_cons_succ]
  refine reg_reads hR 4 8 (u := .int .u64 (a3.toNat : Int)) (v := .int .u64 (b3.toNat : Int)) (by kernel_rfl) (by kernel_rfl) (by kernel_rfl) rfl rfl (by rfl) (by rfl) (by rfl) (by rfl) ?_ ?_ ?_ ?_ (by kernel_rfl) (by rfl) ?_
  · exact exec_load_cell 31 _ rfl Try.isAgg31 rfl ca3
  · exact exec_load_cell 31 _ rfl Try.isAgg31 rfl cb3
  · exact exec_load_cell 31 _ rfl Try.isAgg31 rfl ca3
  · exact exec_load_cell 31 _ rfl Try.isAgg31 rfl cb3
  try simp only [Act.put, List.getElem_toArray, List.getElem_cons_succ, List.getElem_cons_zero, List.setIfInBounds_toArray, List.set_cons_zero, List.set_cons_succ]
  -- STEP 9: Op.call { callee := Callee.value (Operand.func 21), args := #[t10, t14, Operand.const (Value.int IntKind.u64 0
  refine reg_step hR 9 (by kernel_rfl) rfl fun K hK => ?_
  try simp only [Act.put, List.getElem_toArray, List.getElem_cons_succ, List.getElem_cons_zero, List.setIfInBounds_toArray, List.set_cons_zero, List.set_cons_succ]
  rw [if_pos (by rfl)]
  refine wp_val _ (exec_add640 _ _ rfl rfl rfl e3 f3) ?_
  refine hK.out _ _ ?_ ?_
  · exact (Kp.stays _).refl _
  clear hK K
  try simp only [Act.put, List.getElem_toArray, List.getElem_cons_succ, List.getElem_cons_zero, List.setIfInBounds_toArray, List.set_cons_zero, List.set_cons_succ]
  refine reg_take (v := ?_) hR 10 rfl (by kernel_rfl) (by kernel_rfl) (by kernel_rfl) (fun _ _ _ h => h) (by rfl) ?_ ?_
  rotate_left
  · intro W hW; go_simp; try with_reducible rfl
  try simp only [Act.put, List.getElem_toArray, List.getElem_cons_succ, List.getElem_cons_zero, List.setIfInBounds_toArray, List.set_cons_zero, List.set_cons_succ]
  refine reg_take (v := ?_) hR 11 rfl (by kernel_rfl) (by kernel_rfl) (by kernel_rfl) (fun _ _ _ h => h) (by rfl) ?_ ?_
  rotate_left
  · intro W hW; go_simp; try with_reducible rfl
  try simp only [Act.put, List.getElem_toArray, List.getElem_cons_succ, List.getElem_cons_zero, List.setIfInBounds_toArray, List.set_cons_zero, List.set_cons_succ]
  refine reg_take (v := ?_) hR 12 rfl (by kernel_rfl) (by kernel_rfl) (by kernel_rfl) (fun _ _ _ h => h) (by rfl) ?_ ?_
  rotate_left
  · intro W hW; go_simp; try with_reducible rfl
  try simp only [Act.put, List.getElem_toArray, List.getElem_cons_succ, List.getElem_cons_zero, List.setIfInBounds_toArray, List.set_cons_zero, List.set_cons_succ]
  refine reg_take (v := .pointer (some ⟨g, 3, none⟩)) hR 14 rfl (by kernel_rfl) (by kernel_rfl) (by kernel_rfl) (fun _ _ _ h => h) (by rfl) ?_ ?_
  · intro W hW; exact exec_at64 40 _ _ rfl Try.underlying40 rfl rfl (by omega)
  try simp only [Act.put, List.getElem_toArray, List.getElem_cons_succ, List.getElem_cons_zero, List.setIfInBounds_toArray, List.set_cons_zero, List.set_cons_succ]
  -- STEP 15: Op.store 31 (t19) (t16)
  refine reg_step hR 15 (by kernel_rfl) rfl fun K hK => ?_
  try simp only [Act.put, List.getElem_toArray, List.getElem_cons_succ, List.getElem_cons_zero, List.setIfInBounds_toArray, List.set_cons_zero, List.set_cons_succ]
  rw [if_pos (by rfl)]
  refine wp_store_cell _ _ rfl (g := g) (k := 3) rfl rfl hB0 (by simp) ?_
  refine hK.out _ _ ?_ ?_
  · exact Kp.of_cellG _ _
  clear hK K
  try simp only [Act.put, List.getElem_toArray, List.getElem_cons_succ, List.getElem_cons_zero, List.setIfInBounds_toArray, List.set_cons_zero, List.set_cons_succ]
  refine reg_take (v := ?_) hR 16 rfl (by kernel_rfl) (by kernel_rfl) (by kernel_rfl) (fun _ _ _ h => h) (by rfl) ?_ ?_
  rotate_left
  · intro W hW; go_simp; try with_reducible rfl
  try simp only [Act.put, List.getElem_toArray, List.getElem_cons_succ, List.getElem_cons_zero, List.setIfInBounds_toArray, List.set_cons_zero, List.set_cons_succ]
  refine reg_done (by kernel_rfl) ?_ _

  have hP1 := (Kp.stays _).trans hP0 ((Kp.stays _).trans (kp_drew _) (Kp.of_cellG (g := g) 3 (.int .u64 (s3.toNat : Int))))
  have hB1 := hB0.drew.setCell 3 (.int .u64 (s3.toNat : Int))
  have ca0 := cell_set (g := g) (i := 3) (v := .int .u64 (s3.toNat : Int)) ca0 (by omega)
  have cb0 := cell_set (g := g) (i := 3) (v := .int .u64 (s3.toNat : Int)) cb0 (by omega)
  have ca1 := cell_set (g := g) (i := 3) (v := .int .u64 (s3.toNat : Int)) ca1 (by omega)
  have cb1 := cell_set (g := g) (i := 3) (v := .int .u64 (s3.toNat : Int)) cb1 (by omega)
  have ca2 := cell_set (g := g) (i := 3) (v := .int .u64 (s3.toNat : Int)) ca2 (by omega)
  have cb2 := cell_set (g := g) (i := 3) (v := .int .u64 (s3.toNat : Int)) cb2 (by omega)
  go_wp2_with fail
  have hR := Kp.stays (· = g)
  refine reg_start (Kp (· = g)) follows_mixed ?_
-- region 2 of f16: 18 operations, draws: true
  refine reg_take (v := ?_) hR 0 rfl (by kernel_rfl) (by kernel_rfl) (by kernel_rfl) (fun _ _ _ h => h) (by rfl) ?_ ?_
  rotate_left
  · intro W hW; go_simp; try with_reducible rfl
  try simp only [Act.put, List.getElem_toArray, List.getElem_cons_succ, List.getElem_cons_zero, List.setIfInBounds_toArray, List.set_cons_zero, List.set_cons_succ]
  refine reg_take (v := ?_) hR 1 rfl (by kernel_rfl) (by kernel_rfl) (by kernel_rfl) (fun _ _ _ h => h) (by rfl) ?_ ?_
  rotate_left
  · intro W hW; go_simp; try with_reducible rfl
  try simp only [Act.put, List.getElem_toArray, List.getElem_cons_succ, List.getElem_cons_zero, List.setIfInBounds_toArray, List.set_cons_zero, List.set_cons_succ]
  refine reg_take (v := ?_) hR 2 rfl (by kernel_rfl) (by kernel_rfl) (by kernel_rfl) (fun _ _ _ h => h) (by rfl) ?_ ?_
  rotate_left
  · intro W hW; go_simp; try with_reducible rfl
  try simp only [Act.put, List.getElem_toArray, List.getElem_cons_succ, List.getElem_cons_zero, List.setIfInBounds_toArray, List.set_cons_zero, List.set_cons_succ]
  refine reg_take (v := .pointer (some ⟨g, 2, none⟩)) hR 3 rfl (by kernel_rfl) (by kernel_rfl) (by kernel_rfl) (fun _ _ _ h => h) (by rfl) ?_ ?_
  · intro W hW; exact exec_at64 40 _ _ rfl Try.underlying40 rfl rfl (by omega)
  try simp only [Act.put, List.getElem_toArray, List.getElem_cons_succ, List.getElem_cons_zero, List.setIfInBounds_toArray, List.set_cons_zero, List.set_cons_succ]
  refine reg_take (v := ?_) hR 5 rfl (by kernel_rfl) (by kernel_rfl) (by kernel_rfl) (fun _ _ _ h => h) (by rfl) ?_ ?_
  rotate_left
  · intro W hW; go_simp; try with_reducible rfl
  try simp only [Act.put, List.getElem_toArray, List.getElem_cons_succ, List.getElem_cons_zero, List.setIfInBounds_toArray, List.set_cons_zero, List.set_cons_succ]
  refine reg_take (v := ?_) hR 6 rfl (by kernel_rfl) (by kernel_rfl) (by kernel_rfl) (fun _ _ _ h => h) (by rfl) ?_ ?_
  rotate_left
  · intro W hW; go_simp; try with_reducible rfl
  try simp only [Act.put, List.getElem_toArray, List.getElem_cons_succ, List.getElem_cons_zero, List.setIfInBounds_toArray, List.set_cons_zero, List.set_cons_succ]
  refine reg_take (v := .pointer (some ⟨k, 2, none⟩)) hR 7 rfl (by kernel_rfl) (by kernel_rfl) (by kernel_rfl) (fun _ _ _ h => h) (by rfl) ?_ ?_
  · intro W hW; exact exec_at64 40 _ _ rfl Try.underlying40 rfl rfl (by omega)
  try simp only [Act.put, List.getElem_toArray, List.getElem_cons_succ, List.getElem_cons_zero, List.setIfInBounds_toArray, List.set_cons_zero, List.set_cons_succ]
  refine reg_take (v := ?_) hR 9 rfl (by kernel_rfl) (by kernel_rfl) (by kernel_rfl) (fun _ _ _ h => h) (by rfl) ?_ ?_
  rotate_left
  · intro W hW; go_simp; try with_reducible rfl
  try simp only [Act.put, List.getElem_toArray, List.getElem_cons_succ, List.getElem_cons_zero, List.setIfInBounds_toArray, List.set_cons_zero, List.set_cons_succ]
  refine reg_take (v := ?_) hR 14 rfl (by kernel_rfl) (by kernel_rfl) (by kernel_rfl) (fun _ _ _ h => h) (by rfl) ?_ ?_
  rotate_left
  · intro W hW; go_simp; try with_reducible rfl
  try simp only [Act.put, List.getElem_toArray, List.getElem_cons_succ, List.getElem_cons_zero, List.setIfInBounds_toArray, List.set_cons_zero, List.set_cons_succ]
  refine reg_reads hR 4 8 (u := .int .u64 (a2.toNat : Int)) (v := .int .u64 (b2.toNat : Int)) (by kernel_rfl) (by kernel_rfl) (by kernel_rfl) rfl rfl (by rfl) (by rfl) (by rfl) (by rfl) ?_ ?_ ?_ ?_ (by kernel_rfl) (by rfl) ?_
  · exact exec_load_cell 31 _ rfl Try.isAgg31 rfl ca2
  · exact exec_load_cell 31 _ rfl Try.isAgg31 rfl cb2
  · exact exec_load_cell 31 _ rfl Try.isAgg31 rfl ca2
  · exact exec_load_cell 31 _ rfl Try.isAgg31 rfl cb2
  try simp only [Act.put, List.getElem_toArray, List.getElem_cons_succ, List.getElem_cons_zero, List.setIfInBounds_toArray, List.set_cons_zero, List.set_cons_succ]
  -- STEP 10: Op.call { callee := Callee.value (Operand.func 21), args := #[t25, t29, t30], argTypes := #[31, 31, 31] }
  refine reg_step hR 10 (by kernel_rfl) rfl fun K hK => ?_
  try simp only [Act.put, List.getElem_toArray, List.getElem_cons_succ, List.getElem_cons_zero, List.setIfInBounds_toArray, List.set_cons_zero, List.set_cons_succ]
  rw [if_pos (by rfl)]
  refine wp_val _ (exec_add64c _ _ _ rfl rfl rfl rfl e2 f2 h2) ?_
  refine hK.out _ _ ?_ ?_
  · exact (Kp.stays _).refl _
  clear hK K
  try simp only [Act.put, List.getElem_toArray, List.getElem_cons_succ, List.getElem_cons_zero, List.setIfInBounds_toArray, List.set_cons_zero, List.set_cons_succ]
  refine reg_take (v := ?_) hR 11 rfl (by kernel_rfl) (by kernel_rfl) (by kernel_rfl) (fun _ _ _ h => h) (by rfl) ?_ ?_
  rotate_left
  · intro W hW; go_simp; try with_reducible rfl
  try simp only [Act.put, List.getElem_toArray, List.getElem_cons_succ, List.getElem_cons_zero, List.setIfInBounds_toArray, List.set_cons_zero, List.set_cons_succ]
  refine reg_take (v := ?_) hR 12 rfl (by kernel_rfl) (by kernel_rfl) (by kernel_rfl) (fun _ _ _ h => h) (by rfl) ?_ ?_
  rotate_left
  · intro W hW; go_simp; try with_reducible rfl
  try simp only [Act.put, List.getElem_toArray, List.getElem_cons_succ, List.getElem_cons_zero, List.setIfInBounds_toArray, List.set_cons_zero, List.set_cons_succ]
  refine reg_take (v := ?_) hR 13 rfl (by kernel_rfl) (by kernel_rfl) (by kernel_rfl) (fun _ _ _ h => h) (by rfl) ?_ ?_
  rotate_left
  · intro W hW; go_simp; try with_reducible rfl
  try simp only [Act.put, List.getElem_toArray, List.getElem_cons_succ, List.getElem_cons_zero, List.setIfInBounds_toArray, List.set_cons_zero, List.set_cons_succ]
  refine reg_take (v := .pointer (some ⟨g, 2, none⟩)) hR 15 rfl (by kernel_rfl) (by kernel_rfl) (by kernel_rfl) (fun _ _ _ h => h) (by rfl) ?_ ?_
  · intro W hW; exact exec_at64 40 _ _ rfl Try.underlying40 rfl rfl (by omega)
  try simp only [Act.put, List.getElem_toArray, List.getElem_cons_succ, List.getElem_cons_zero, List.setIfInBounds_toArray, List.set_cons_zero, List.set_cons_succ]
  -- STEP 16: Op.store 31 (t35) (t32)
  refine reg_step hR 16 (by kernel_rfl) rfl fun K hK => ?_
  try simp only [Act.put, List.getElem_toArray, List.getElem_cons_succ, List.getElem_cons_zero, List.setIfInBounds_toArray, List.set_cons_zero, List.set_cons_succ]
  rw [if_pos (by rfl)]
  refine wp_store_cell _ _ rfl (g := g) (k := 2) rfl rfl hB1 (by simp) ?_
  refine hK.out _ _ ?_ ?_
  · exact Kp.of_cellG _ _
  clear hK K
  try simp only [Act.put, List.getElem_toArray, List.getElem_cons_succ, List.getElem_cons_zero, List.setIfInBounds_toArray, List.set_cons_zero, List.set_cons_succ]
  refine reg_take (v := ?_) hR 17 rfl (by kernel_rfl) (by kernel_rfl) (by kernel_rfl) (fun _ _ _ h => h) (by rfl) ?_ ?_
  rotate_left
  · intro W hW; go_simp; try with_reducible rfl
  try simp only [Act.put, List.getElem_toArray, List.getElem_cons_succ, List.getElem_cons_zero, List.setIfInBounds_toArray, List.set_cons_zero, List.set_cons_succ]
  refine reg_done (by kernel_rfl) ?_ _

  have hP2 := (Kp.stays _).trans hP1 ((Kp.stays _).trans (kp_drew _) (Kp.of_cellG (g := g) 2 (.int .u64 (s2.toNat : Int))))
  have hB2 := hB1.drew.setCell 2 (.int .u64 (s2.toNat : Int))
  have ca0 := cell_set (g := g) (i := 2) (v := .int .u64 (s2.toNat : Int)) ca0 (by omega)
  have cb0 := cell_set (g := g) (i := 2) (v := .int .u64 (s2.toNat : Int)) cb0 (by omega)
  have ca1 := cell_set (g := g) (i := 2) (v := .int .u64 (s2.toNat : Int)) ca1 (by omega)
  have cb1 := cell_set (g := g) (i := 2) (v := .int .u64 (s2.toNat : Int)) cb1 (by omega)
  go_wp2_with fail
  have hR := Kp.stays (· = g)
  refine reg_start (Kp (· = g)) follows_mixed ?_
-- region 3 of f16: 18 operations, draws: true
  refine reg_take (v := ?_) hR 0 rfl (by kernel_rfl) (by kernel_rfl) (by kernel_rfl) (fun _ _ _ h => h) (by rfl) ?_ ?_
  rotate_left
  · intro W hW; go_simp; try with_reducible rfl
  try simp only [Act.put, List.getElem_toArray, List.getElem_cons_succ, List.getElem_cons_zero, List.setIfInBounds_toArray, List.set_cons_zero, List.set_cons_succ]
  refine reg_take (v := ?_) hR 1 rfl (by kernel_rfl) (by kernel_rfl) (by kernel_rfl) (fun _ _ _ h => h) (by rfl) ?_ ?_
  rotate_left
  · intro W hW; go_simp; try with_reducible rfl
  try simp only [Act.put, List.getElem_toArray, List.getElem_cons_succ, List.getElem_cons_zero, List.setIfInBounds_toArray, List.set_cons_zero, List.set_cons_succ]
  refine reg_take (v := ?_) hR 2 rfl (by kernel_rfl) (by kernel_rfl) (by kernel_rfl) (fun _ _ _ h => h) (by rfl) ?_ ?_
  rotate_left
  · intro W hW; go_simp; try with_reducible rfl
  try simp only [Act.put, List.getElem_toArray, List.getElem_cons_succ, List.getElem_cons_zero, List.setIfInBounds_toArray, List.set_cons_zero, List.set_cons_succ]
  refine reg_take (v := .pointer (some ⟨g, 1, none⟩)) hR 3 rfl (by kernel_rfl) (by kernel_rfl) (by kernel_rfl) (fun _ _ _ h => h) (by rfl) ?_ ?_
  · intro W hW; exact exec_at64 40 _ _ rfl Try.underlying40 rfl rfl (by omega)
  try simp only [Act.put, List.getElem_toArray, List.getElem_cons_succ, List.getElem_cons_zero, List.setIfInBounds_toArray, List.set_cons_zero, List.set_cons_succ]
  refine reg_take (v := ?_) hR 5 rfl (by kernel_rfl) (by kernel_rfl) (by kernel_rfl) (fun _ _ _ h => h) (by rfl) ?_ ?_
  rotate_left
  · intro W hW; go_simp; try with_reducible rfl
  try simp only [Act.put, List.getElem_toArray, List.getElem_cons_succ, List.getElem_cons_zero, List.setIfInBounds_toArray, List.set_cons_zero, List.set_cons_succ]
  refine reg_take (v := ?_) hR 6 rfl (by kernel_rfl) (by kernel_rfl) (by kernel_rfl) (fun _ _ _ h => h) (by rfl) ?_ ?_
  rotate_left
  · intro W hW; go_simp; try with_reducible rfl
  try simp only [Act.put, List.getElem_toArray, List.getElem_cons_succ, List.getElem_cons_zero, List.setIfInBounds_toArray, List.set_cons_zero, List.set_cons_succ]
  refine reg_take (v := .pointer (some ⟨k, 1, none⟩)) hR 7 rfl (by kernel_rfl) (by kernel_rfl) (by kernel_rfl) (fun _ _ _ h => h) (by rfl) ?_ ?_
  · intro W hW; exact exec_at64 40 _ _ rfl Try.underlying40 rfl rfl (by omega)
  try simp only [Act.put, List.getElem_toArray, List.getElem_cons_succ, List.getElem_cons_zero, List.setIfInBounds_toArray, List.set_cons_zero, List.set_cons_succ]
  refine reg_take (v := ?_) hR 9 rfl (by kernel_rfl) (by kernel_rfl) (by kernel_rfl) (fun _ _ _ h => h) (by rfl) ?_ ?_
  rotate_left
  · intro W hW; go_simp; try with_reducible rfl
  try simp only [Act.put, List.getElem_toArray, List.getElem_cons_succ, List.getElem_cons_zero, List.setIfInBounds_toArray, List.set_cons_zero, List.set_cons_succ]
  refine reg_take (v := ?_) hR 14 rfl (by kernel_rfl) (by kernel_rfl) (by kernel_rfl) (fun _ _ _ h => h) (by rfl) ?_ ?_
  rotate_left
  · intro W hW; go_simp; try with_reducible rfl
  try simp only [Act.put, List.getElem_toArray, List.getElem_cons_succ, List.getElem_cons_zero, List.setIfInBounds_toArray, List.set_cons_zero, List.set_cons_succ]
  refine reg_reads hR 4 8 (u := .int .u64 (a1.toNat : Int)) (v := .int .u64 (b1.toNat : Int)) (by kernel_rfl) (by kernel_rfl) (by kernel_rfl) rfl rfl (by rfl) (by rfl) (by rfl) (by rfl) ?_ ?_ ?_ ?_ (by kernel_rfl) (by rfl) ?_
  · exact exec_load_cell 31 _ rfl Try.isAgg31 rfl ca1
  · exact exec_load_cell 31 _ rfl Try.isAgg31 rfl cb1
  · exact exec_load_cell 31 _ rfl Try.isAgg31 rfl ca1
  · exact exec_load_cell 31 _ rfl Try.isAgg31 rfl cb1
  try simp only [Act.put, List.getElem_toArray, List.getElem_cons_succ, List.getElem_cons_zero, List.setIfInBounds_toArray, List.set_cons_zero, List.set_cons_succ]
  -- STEP 10: Op.call { callee := Callee.value (Operand.func 21), args := #[t41, t45, t46], argTypes := #[31, 31, 31] }
  refine reg_step hR 10 (by kernel_rfl) rfl fun K hK => ?_
  try simp only [Act.put, List.getElem_toArray, List.getElem_cons_succ, List.getElem_cons_zero, List.setIfInBounds_toArray, List.set_cons_zero, List.set_cons_succ]
  rw [if_pos (by rfl)]
  refine wp_val _ (exec_add64c _ _ _ rfl rfl rfl rfl e1 f1 h1) ?_
  refine hK.out _ _ ?_ ?_
  · exact (Kp.stays _).refl _
  clear hK K
  try simp only [Act.put, List.getElem_toArray, List.getElem_cons_succ, List.getElem_cons_zero, List.setIfInBounds_toArray, List.set_cons_zero, List.set_cons_succ]
  refine reg_take (v := ?_) hR 11 rfl (by kernel_rfl) (by kernel_rfl) (by kernel_rfl) (fun _ _ _ h => h) (by rfl) ?_ ?_
  rotate_left
  · intro W hW; go_simp; try with_reducible rfl
  try simp only [Act.put, List.getElem_toArray, List.getElem_cons_succ, List.getElem_cons_zero, List.setIfInBounds_toArray, List.set_cons_zero, List.set_cons_succ]
  refine reg_take (v := ?_) hR 12 rfl (by kernel_rfl) (by kernel_rfl) (by kernel_rfl) (fun _ _ _ h => h) (by rfl) ?_ ?_
  rotate_left
  · intro W hW; go_simp; try with_reducible rfl
  try simp only [Act.put, List.getElem_toArray, List.getElem_cons_succ, List.getElem_cons_zero, List.setIfInBounds_toArray, List.set_cons_zero, List.set_cons_succ]
  refine reg_take (v := ?_) hR 13 rfl (by kernel_rfl) (by kernel_rfl) (by kernel_rfl) (fun _ _ _ h => h) (by rfl) ?_ ?_
  rotate_left
  · intro W hW; go_simp; try with_reducible rfl
  try simp only [Act.put, List.getElem_toArray, List.getElem_cons_succ, List.getElem_cons_zero, List.setIfInBounds_toArray, List.set_cons_zero, List.set_cons_succ]
  refine reg_take (v := .pointer (some ⟨g, 1, none⟩)) hR 15 rfl (by kernel_rfl) (by kernel_rfl) (by kernel_rfl) (fun _ _ _ h => h) (by rfl) ?_ ?_
  · intro W hW; exact exec_at64 40 _ _ rfl Try.underlying40 rfl rfl (by omega)
  try simp only [Act.put, List.getElem_toArray, List.getElem_cons_succ, List.getElem_cons_zero, List.setIfInBounds_toArray, List.set_cons_zero, List.set_cons_succ]
  -- STEP 16: Op.store 31 (t51) (t48)
  refine reg_step hR 16 (by kernel_rfl) rfl fun K hK => ?_
  try simp only [Act.put, List.getElem_toArray, List.getElem_cons_succ, List.getElem_cons_zero, List.setIfInBounds_toArray, List.set_cons_zero, List.set_cons_succ]
  rw [if_pos (by rfl)]
  refine wp_store_cell _ _ rfl (g := g) (k := 1) rfl rfl hB2 (by simp) ?_
  refine hK.out _ _ ?_ ?_
  · exact Kp.of_cellG _ _
  clear hK K
  try simp only [Act.put, List.getElem_toArray, List.getElem_cons_succ, List.getElem_cons_zero, List.setIfInBounds_toArray, List.set_cons_zero, List.set_cons_succ]
  refine reg_take (v := ?_) hR 17 rfl (by kernel_rfl) (by kernel_rfl) (by kernel_rfl) (fun _ _ _ h => h) (by rfl) ?_ ?_
  rotate_left
  · intro W hW; go_simp; try with_reducible rfl
  try simp only [Act.put, List.getElem_toArray, List.getElem_cons_succ, List.getElem_cons_zero, List.setIfInBounds_toArray, List.set_cons_zero, List.set_cons_succ]
  refine reg_done (by kernel_rfl) ?_ _

  have hP3 := (Kp.stays _).trans hP2 ((Kp.stays _).trans (kp_drew _) (Kp.of_cellG (g := g) 1 (.int .u64 (s1.toNat : Int))))
  have hB3 := hB2.drew.setCell 1 (.int .u64 (s1.toNat : Int))
  have ca0 := cell_set (g := g) (i := 1) (v := .int .u64 (s1.toNat : Int)) ca0 (by omega)
  have cb0 := cell_set (g := g) (i := 1) (v := .int .u64 (s1.toNat : Int)) cb0 (by omega)
  go_wp2_with fail
  have hR := Kp.stays (· = g)
  refine reg_start (Kp (· = g)) follows_mixed ?_
-- region 4 of f16: 14 operations, draws: true
  refine reg_take (v := ?_) hR 0 rfl (by kernel_rfl) (by kernel_rfl) (by kernel_rfl) (fun _ _ _ h => h) (by rfl) ?_ ?_
  rotate_left
  · intro W hW; go_simp; try with_reducible rfl
  try simp only [Act.put, List.getElem_toArray, List.getElem_cons_succ, List.getElem_cons_zero, List.setIfInBounds_toArray, List.set_cons_zero, List.set_cons_succ]
  refine reg_take (v := ?_) hR 1 rfl (by kernel_rfl) (by kernel_rfl) (by kernel_rfl) (fun _ _ _ h => h) (by rfl) ?_ ?_
  rotate_left
  · intro W hW; go_simp; try with_reducible rfl
  try simp only [Act.put, List.getElem_toArray, List.getElem_cons_succ, List.getElem_cons_zero, List.setIfInBounds_toArray, List.set_cons_zero, List.set_cons_succ]
  refine reg_take (v := .pointer (some ⟨g, 0, none⟩)) hR 2 rfl (by kernel_rfl) (by kernel_rfl) (by kernel_rfl) (fun _ _ _ h => h) (by rfl) ?_ ?_
  · intro W hW; exact exec_at64 40 _ _ rfl Try.underlying40 rfl rfl (by omega)
  try simp only [Act.put, List.getElem_toArray, List.getElem_cons_succ, List.getElem_cons_zero, List.setIfInBounds_toArray, List.set_cons_zero, List.set_cons_succ]
  refine reg_take (v := ?_) hR 4 rfl (by kernel_rfl) (by kernel_rfl) (by kernel_rfl) (fun _ _ _ h => h) (by rfl) ?_ ?_
  rotate_left
  · intro W hW; go_simp; try with_reducible rfl
  try simp only [Act.put, List.getElem_toArray, List.getElem_cons_succ, List.getElem_cons_zero, List.setIfInBounds_toArray, List.set_cons_zero, List.set_cons_succ]
  refine reg_take (v := ?_) hR 5 rfl (by kernel_rfl) (by kernel_rfl) (by kernel_rfl) (fun _ _ _ h => h) (by rfl) ?_ ?_
  rotate_left
  · intro W hW; go_simp; try with_reducible rfl
  try simp only [Act.put, List.getElem_toArray, List.getElem_cons_succ, List.getElem_cons_zero, List.setIfInBounds_toArray, List.set_cons_zero, List.set_cons_succ]
  refine reg_take (v := .pointer (some ⟨k, 0, none⟩)) hR 6 rfl (by kernel_rfl) (by kernel_rfl) (by kernel_rfl) (fun _ _ _ h => h) (by rfl) ?_ ?_
  · intro W hW; exact exec_at64 40 _ _ rfl Try.underlying40 rfl rfl (by omega)
  try simp only [Act.put, List.getElem_toArray, List.getElem_cons_succ, List.getElem_cons_zero, List.setIfInBounds_toArray, List.set_cons_zero, List.set_cons_succ]
  refine reg_take (v := ?_) hR 8 rfl (by kernel_rfl) (by kernel_rfl) (by kernel_rfl) (fun _ _ _ h => h) (by rfl) ?_ ?_
  rotate_left
  · intro W hW; go_simp; try with_reducible rfl
  try simp only [Act.put, List.getElem_toArray, List.getElem_cons_succ, List.getElem_cons_zero, List.setIfInBounds_toArray, List.set_cons_zero, List.set_cons_succ]
  refine reg_take (v := ?_) hR 11 rfl (by kernel_rfl) (by kernel_rfl) (by kernel_rfl) (fun _ _ _ h => h) (by rfl) ?_ ?_
  rotate_left
  · intro W hW; go_simp; try with_reducible rfl
  try simp only [Act.put, List.getElem_toArray, List.getElem_cons_succ, List.getElem_cons_zero, List.setIfInBounds_toArray, List.set_cons_zero, List.set_cons_succ]
  refine reg_reads3 hR 3 7 9 (u := .int .u64 (a0.toNat : Int)) (v := .int .u64 (b0.toNat : Int)) (x := .int .u64 ((b0 + o1).toNat : Int)) (by kernel_rfl) (by kernel_rfl) (by kernel_rfl) rfl rfl rfl (by rfl) (by rfl) (by rfl) (by rfl) ?_ ?_ ?_ ?_ (by kernel_rfl) (by kernel_rfl) (by kernel_rfl) (fun _ _ _ h => h) (by rfl) ?_ (by kernel_rfl) (by kernel_rfl) (by rfl) ?_ (by kernel_rfl) (by rfl) ?_
  · exact exec_load_cell 31 _ rfl Try.isAgg31 rfl ca0
  · exact exec_load_cell 31 _ rfl Try.isAgg31 rfl cb0
  · exact exec_load_cell 31 _ rfl Try.isAgg31 rfl ca0
  · exact exec_load_cell 31 _ rfl Try.isAgg31 rfl cb0
  · intro W hW; exact exec_add64 _ _ rfl rfl rfl rfl
  · intro W hW; exact exec_add64 _ _ rfl rfl rfl rfl
  try simp only [Act.put, List.getElem_toArray, List.getElem_cons_succ, List.getElem_cons_zero, List.setIfInBounds_toArray, List.set_cons_zero, List.set_cons_succ]
  refine reg_take (v := .int .u64 ((a0 + (b0 + o1)).toNat : Int)) hR 10 rfl (by kernel_rfl) (by kernel_rfl) (by kernel_rfl) (fun _ _ _ h => h) (by rfl) ?_ ?_
  · intro W hW; exact exec_add64 _ _ rfl rfl rfl rfl
  try simp only [Act.put, List.getElem_toArray, List.getElem_cons_succ, List.getElem_cons_zero, List.setIfInBounds_toArray, List.set_cons_zero, List.set_cons_succ]
  refine reg_take (v := .pointer (some ⟨g, 0, none⟩)) hR 12 rfl (by kernel_rfl) (by kernel_rfl) (by kernel_rfl) (fun _ _ _ h => h) (by rfl) ?_ ?_
  · intro W hW; exact exec_at64 40 _ _ rfl Try.underlying40 rfl rfl (by omega)
  try simp only [Act.put, List.getElem_toArray, List.getElem_cons_succ, List.getElem_cons_zero, List.setIfInBounds_toArray, List.set_cons_zero, List.set_cons_succ]
  -- STEP 13: Op.store 31 (t64) (t62)
  refine reg_step hR 13 (by kernel_rfl) rfl fun K hK => ?_
  try simp only [Act.put, List.getElem_toArray, List.getElem_cons_succ, List.getElem_cons_zero, List.setIfInBounds_toArray, List.set_cons_zero, List.set_cons_succ]
  rw [if_pos (by rfl)]
  refine wp_store_cell _ _ rfl (g := g) (k := 0) rfl rfl hB3 (by simp) ?_
  refine hK.out _ _ ?_ ?_
  · exact Kp.of_cellG _ _
  clear hK K
  try simp only [Act.put, List.getElem_toArray, List.getElem_cons_succ, List.getElem_cons_zero, List.setIfInBounds_toArray, List.set_cons_zero, List.set_cons_succ]
  refine reg_done (by kernel_rfl) ?_ _

  have hP4 := (Kp.stays _).trans hP3 ((Kp.stays _).trans (kp_drew _) (Kp.of_cellG (g := g) 0 (.int .u64 ((a0 + (b0 + o1)).toNat : Int))))
  have hB4 := hB3.drew.setCell 0 (.int .u64 ((a0 + (b0 + o1)).toNat : Int))

  generalize a0 + (b0 + o1) = t0 at *
  have HB4 := Bk.of_eq (cs' := cs64 (wd (a + b))) hB4 (by rw [HW.out]; rfl)
  clear hB0 hB1 hB2 hB3 hB4 ca0 cb0
  go_wp2_with fail
  refine (lower_any (a + b) g _ hab ?_).mono ?_
  · exact HB4
  rintro e w2 ⟨⟨v, rfl⟩, hb2, hk2⟩
  have HB2 := Lib.hid hb2
  have HK2 := Lib.hid ((Kp.stays _).trans hP4 hk2)
  clear hb2 hk2 hP4
  go_wp2
  refine bodyPost_end (results_none rfl _ _ _) rfl ?_
  exact ⟨⟨_, rfl⟩, HB2.out, HK2.out⟩
end Go.Proofs.Ytdfaliadkpdfpaa
