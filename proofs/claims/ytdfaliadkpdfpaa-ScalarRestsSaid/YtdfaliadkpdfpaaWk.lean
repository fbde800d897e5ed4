/- Numbers of words: whether one is below another; the order. -/
import Derived.Test.YtdfaliadkpdfpaaCf
namespace Go.Proofs.Ytdfaliadkpdfpaa
set_option linter.unusedSimpArgs false
set_option linter.unusedVariables false
open Go.RowKit

set_option maxHeartbeats 400000 in
theorem below_any (a b : Nat) (g k : Nat) (w : World) (ha : a < 115792089237316195423570985008687907853269984665640564039457584007913129639936) (hb : b < 115792089237316195423570985008687907853269984665640564039457584007913129639936) (hA : Bk w g (cs64 (wd a))) (hB : Bk w k (cs64 (wd b))) :
    Calls Try.prog 24 #[.pointer (some ⟨g, 0, none⟩), .pointer (some ⟨k, 0, none⟩)] w fun e w' => e = .returned (.bool (decide (a < b))) ∧ w' = w.drew := by
  rw [← cmp_wd a b ha hb]
  clear ha hb
  go_enter Try.func24, Try.ntmps24
  go_wp2_with fail
  have hR := Sm.stays
  refine reg_start Sm follows_mixed ?_
-- region 1 of f24: 9 operations, draws: true
  refine reg_take (v := ?_) hR 0 rfl (by kernel_rfl) (by kernel_rfl) (by kernel_rfl) (fun _ _ _ h => h) (by rfl) ?_ ?_
  rotate_left
  · intro W hW; go_simp; try with_reducible rfl
  try simp only [Act.put, List.getElem_toArray, List.getElem_cons_succ, List.getElem_cons_zero, List.setIfInBounds_toArray, List.set_cons_zero, List.set_cons_succ]
  refine reg_take (v := ?_) hR 1 rfl (by kernel_rfl) (by kernel_rfl) (by kernel_rfl) (fun _ _ _ h => h) (by rfl) ?_ ?_
  rotate_left
  · intro W hW; go_simp; try with_reducible rfl
  try simp only [Act.put, List.getElem_toArray, List.getElem_cons_succ, List.getElem_cons_zero, List.setIfInBounds_toArray, List.set_cons_zero, List.set_cons_succ]
  refine reg_take (v := ?_) hR 2 rfl (by kernel_rfl) (by kernel_rfl) (by kernel_rfl) (fun _ _ _ h => h) (by rfl) ?_ ?_
  rotate_left
  · intro W hW; go_simp; try with_reducible rfl
  try simp only [Act.put, List.getElem_toArray, List.getElem_cons_succ, List.getElem_cons_zero, List.setIfInBounds_toArray, List.set_cons_zero, List.set_cons_succ]
  refine reg_take (v := ?_) hR 3 rfl (by kernel_rfl) (by kernel_rfl) (by kernel_rfl) (fun _ _ _ h => h) (by rfl) ?_ ?_
  rotate_left
  · intro W hW; go_simp; try with_reducible rfl
  try simp only [Act.put, List.getElem_toArray, List.getElem_cons_succ, List.getElem_cons_zero, List.setIfInBounds_toArray, List.set_cons_zero, List.set_cons_succ]
  refine reg_take (v := ?_) hR 4 rfl (by kernel_rfl) (by kernel_rfl) (by kernel_rfl) (fun _ _ _ h => h) (by rfl) ?_ ?_
  rotate_left
  · intro W hW; go_simp; try with_reducible rfl
  try simp only [Act.put, List.getElem_toArray, List.getElem_cons_succ, List.getElem_cons_zero, List.setIfInBounds_toArray, List.set_cons_zero, List.set_cons_succ]
  refine reg_take (v := ?_) hR 5 rfl (by kernel_rfl) (by kernel_rfl) (by kernel_rfl) (fun _ _ _ h => h) (by rfl) ?_ ?_
  rotate_left
  · intro W hW; go_simp; try with_reducible rfl
  try simp only [Act.put, List.getElem_toArray, List.getElem_cons_succ, List.getElem_cons_zero, List.setIfInBounds_toArray, List.set_cons_zero, List.set_cons_succ]
  -- STEP 6: Op.call { callee := Callee.value (Operand.func 26), args := #[t7, t10, Operand.func 27], argTypes := #[55, 55,
  refine reg_step hR 6 (by kernel_rfl) rfl fun K hK => ?_
  try simp only [Act.put, List.getElem_toArray, List.getElem_cons_succ, List.getElem_cons_zero, List.setIfInBounds_toArray, List.set_cons_zero, List.set_cons_succ]
  go_simp
  refine (cf_any _ _ g k _ (wd_length a) (wd_length b) hA.drew hB.drew).mono ?_; rintro e w1 ⟨rfl, rfl⟩
  refine hK.out _ _ ?_ ?_
  · exact rfl
  clear hK K
  try simp only [Act.put, List.getElem_toArray, List.getElem_cons_succ, List.getElem_cons_zero, List.setIfInBounds_toArray, List.set_cons_zero, List.set_cons_succ]
  refine reg_take (v := ?_) hR 7 rfl (by kernel_rfl) (by kernel_rfl) (by kernel_rfl) (fun _ _ _ h => h) (by rfl) ?_ ?_
  rotate_left
  · intro W hW; go_simp; try with_reducible rfl
  try simp only [Act.put, List.getElem_toArray, List.getElem_cons_succ, List.getElem_cons_zero, List.setIfInBounds_toArray, List.set_cons_zero, List.set_cons_succ]
  refine reg_take (v := ?_) hR 8 rfl (by kernel_rfl) (by kernel_rfl) (by kernel_rfl) (fun _ _ _ h => h) (by rfl) ?_ ?_
  rotate_left
  · intro W hW; go_simp; try with_reducible rfl
  try simp only [Act.put, List.getElem_toArray, List.getElem_cons_succ, List.getElem_cons_zero, List.setIfInBounds_toArray, List.set_cons_zero, List.set_cons_succ]
  refine reg_done (by kernel_rfl) ?_ _

  go_wp2
  go_ret
  exact ⟨rfl, rfl⟩

theorem wd_LL : wd LL = [1152921504606846976, 0, 1503914060200516822, 6346243789798364141] := by decide +kernel
theorem cs_LL : cs64 (wd LL) = [.int .u64 1152921504606846976, .int .u64 0, .int .u64 1503914060200516822, .int .u64 6346243789798364141] := by
  rw [wd_LL]; rfl
set_option maxHeartbeats 400000 in
theorem order_any (w : World) : Calls Try.prog 18 #[] w fun e w' => e = .returned (.agg (cs64 (wd LL)).toArray) ∧ Below w.heap.size w w' := by
  have HI := Lib.hid (show (Try.prog.info? 40).map (·.size) = some (cs64 (wd LL)).length by rw [cs64_length, wd_length]; exact info40)
  have HL := Lib.hid (show z40.length = (cs64 (wd LL)).length by rw [cs64_length, wd_length, len_z40])
  have H1 := Lib.hid (cs64_one (wd LL))
  have HE := Lib.hid cs_LL
  generalize cs64 (wd LL) = cs at HI HL H1 HE ⊢
  have HN := Lib.hid (Bk.new w z40 40)
  go_enter Try.func18, Try.ntmps18
  go_wp2_with (first | (refine wpList_alloc_z rfl 40 rfl z40 zero40 ?_) | (refine wpList_store_bk rfl 40 _ _ rfl w.heap.size rfl cs z40 (by rw [HE.out]; rfl) HN.out HI.out HL.out H1.out ?_))
  exact ret_bk rfl w.heap.size cs _ rfl rfl (HN.out.setRow _) Try.underlying40 rfl HI.out ⟨rfl, bl_setRow (bl_alloc (bl0 w) _) (by omega) _⟩
end Go.Proofs.Ytdfaliadkpdfpaa
