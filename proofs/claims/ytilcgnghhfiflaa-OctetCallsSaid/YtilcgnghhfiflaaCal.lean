/- OctetCalls: numbers, words and blocks are put as the document says. -/
import Derived.Test.YtilcgnghhfiflaaLiv
import Derived.Test.YtilcgnghhfiflaaRef
import Derived.Test.YtilcgnghhfiflaaReg
namespace Go.Proofs.Ytilcgnghhfiflaa
open Go.RowKit

theorem Rd.drew {w : World} {top n c : Nat} {A : Option Addr} {l : List UInt8} (h : Rd w top A n c l) : Rd w.drew top A n c l := h
theorem bl_drew {w w1 : World} (h : Below w.heap.size w w1) : Below w.heap.size w w1.drew := h.drew

/-- A slice that came in still reads so, whatever the call has made since. -/
theorem Rd.later {w w1 : World} {n c : Nat} {A : Option Addr} {l : List UInt8} (h : Rd w w.heap.size A n c l) (hb : Hid (Below w.heap.size w w1)) : Rd w1 w1.heap.size A n c l :=
  (h.below hb.out).more hb.out.size

set_option maxHeartbeats 2000000 in
theorem OctetCalls_walk (A0 : Option Addr) (n0 c0 : Nat) (l0 : List UInt8) (A1 : Option Addr) (n1 c1 : Nat) (l1 : List UInt8) (n m : Int) (w : World)
    (hr0 : Rd w w.heap.size A0 n0 c0 l0) (hr1 : Rd w w.heap.size A1 n1 c1 l1) (h0 : 0 ≤ n) (h1 : n ≤ 18446744073709551615) (_h2 : -9223372036854775808 ≤ m) (_h3 : m ≤ 9223372036854775807) :
    Calls Try.prog 4 #[.slice A0 n0 c0, .slice A1 n1 c1, .int .u64 n, .int .i64 m] w fun x w' => x = .returned (.bool true) ∧ Below w.heap.size w w' := by
  by_cases k0 : 3000 < (n0 : Int)
  · go_enter Try.func4, Try.ntmps4
    go_wp2_with fail
    refine (lives_any _).mono ?_; rintro x w1 ⟨rfl, hb1⟩
    go_wp2
    go_ret
    exact ⟨rfl, hb1⟩
  by_cases k1 : 3000 < (n1 : Int)
  · go_enter Try.func4, Try.ntmps4
    go_wp2_with fail
    refine (lives_any _).mono ?_; rintro x w1 ⟨rfl, hb1⟩
    go_wp2
    go_ret
    exact ⟨rfl, hb1⟩
  obtain ⟨N, rfl⟩ := Int.eq_ofNat_of_zero_le h0
  have e0 := Lib.hid hr0.len
  have e1 := Lib.hid hr1.len
  obtain ⟨L3, hL3⟩ : ∃ L, L = l0 ++ numB N := ⟨_, rfl⟩
  obtain ⟨L7, hL7⟩ : ∃ L, L = l0 ++ (numB l1.length ++ l1) := ⟨_, rfl⟩
  obtain ⟨L10, hL10⟩ : ∃ L, L = l0 ++ wordB N (min (max m 1) 8).toNat := ⟨_, rfl⟩
  have q3 := Lib.hid hL3.symm
  have q7 := Lib.hid hL7.symm
  have q10 := Lib.hid hL10.symm
  clear hL3 hL7 hL10
  go_enter Try.func4, Try.ntmps4
  go_wp2_with fail
  refine (lives_any _).mono ?_; rintro x w1 ⟨rfl, hb1⟩
  have B1 := Lib.hid (bl_drew hb1)
  clear hb1
  go_wp2_with fail
  have hR := Old.stays
  refine reg_start Old follows_mixed ?_
-- region 5 of f4: 38 operations, draws: true
  refine reg_take (v := ?_) hR 0 rfl (by kernel_rfl) (by kernel_rfl) (by kernel_rfl) (fun _ _ _ h => h) (by rfl) ?_ ?_
  rotate_left
  · intro W hW; go_simp; try with_reducible rfl
  try simp only [Act.put, List.getElem_toArray, List.getElem_cons_succ, List.getElem_cons_zero, List.setIfInBounds_toArray, List.set_cons_zero, List.set_cons_succ]
  refine reg_take (v := ?_) hR 2 rfl (by kernel_rfl) (by kernel_rfl) (by kernel_rfl) (fun _ _ _ h => h) (by rfl) ?_ ?_
  rotate_left
  · intro W hW; go_simp; try with_reducible rfl
  try simp only [Act.put, List.getElem_toArray, List.getElem_cons_succ, List.getElem_cons_zero, List.setIfInBounds_toArray, List.set_cons_zero, List.set_cons_succ]
  refine reg_take (v := ?_) hR 5 rfl (by kernel_rfl) (by kernel_rfl) (by kernel_rfl) (fun _ _ _ h => h) (by rfl) ?_ ?_
  rotate_left
  · intro W hW; go_simp; try with_reducible rfl
  try simp only [Act.put, List.getElem_toArray, List.getElem_cons_succ, List.getElem_cons_zero, List.setIfInBounds_toArray, List.set_cons_zero, List.set_cons_succ]
  refine reg_take (v := ?_) hR 6 rfl (by kernel_rfl) (by kernel_rfl) (by kernel_rfl) (fun _ _ _ h => h) (by rfl) ?_ ?_
  rotate_left
  · intro W hW; go_simp; try with_reducible rfl
  try simp only [Act.put, List.getElem_toArray, List.getElem_cons_succ, List.getElem_cons_zero, List.setIfInBounds_toArray, List.set_cons_zero, List.set_cons_succ]
  -- STEP 1: Op.call { callee := Callee.value (Operand.func 20), args := #[t19], argTypes := #[24] }
  refine reg_step hR 1 (by kernel_rfl) rfl fun K hK => ?_
  try simp only [Act.put, List.getElem_toArray, List.getElem_cons_succ, List.getElem_cons_zero, List.setIfInBounds_toArray, List.set_cons_zero, List.set_cons_succ]
  go_simp
  refine (Own_any _ (hr0.later B1) (by omega)).mono ?_; rintro x w2 ⟨v2, rfl, ho2, hb2⟩; obtain ⟨A2, c2, rfl, hr2⟩ := ho2.rd
  refine hK.out _ _ ?_ ?_
  · exact hb2
  have B2 := Lib.hid (bl_call B1.out hb2)
  clear hb2
  clear hK K
  try simp only [Act.put, List.getElem_toArray, List.getElem_cons_succ, List.getElem_cons_zero, List.setIfInBounds_toArray, List.set_cons_zero, List.set_cons_succ]
  -- STEP 3: Op.call { callee := Callee.value (Operand.func 19), args := #[t20, t21], argTypes := #[24, 25] }
  refine reg_step hR 3 (by kernel_rfl) rfl fun K hK => ?_
  try simp only [Act.put, List.getElem_toArray, List.getElem_cons_succ, List.getElem_cons_zero, List.setIfInBounds_toArray, List.set_cons_zero, List.set_cons_succ]
  go_simp
  refine (Number_any _ _ hr2 (by rw [e0.out]; omega) (by omega) (by omega)).mono ?_; rintro x w3 ⟨v3, rfl, ho3, hb3⟩; rw [Int.toNat_natCast, q3.out] at ho3; obtain ⟨A3, c3, rfl, hr3⟩ := ho3.rd; have hs3 : ∀ W, Old w3 W → _ := fun W h => run_str (hr3.below h)
  refine hK.out _ _ ?_ ?_
  · exact hb3
  have B3 := Lib.hid (bl_call B2.out hb3)
  clear hb3
  clear hK K
  try simp only [Act.put, List.getElem_toArray, List.getElem_cons_succ, List.getElem_cons_zero, List.setIfInBounds_toArray, List.set_cons_zero, List.set_cons_succ]
  refine reg_take (v := ?_) hR 4 rfl (by kernel_rfl) (by kernel_rfl) (by kernel_rfl) (fun _ _ _ h => h) (by rfl) ?_ ?_
  rotate_left
  · intro W hW; go_simp; try with_reducible rfl
  try simp only [Act.put, List.getElem_toArray, List.getElem_cons_succ, List.getElem_cons_zero, List.setIfInBounds_toArray, List.set_cons_zero, List.set_cons_succ]
  -- STEP 7: Op.call { callee := Callee.value (Operand.func 21), args := #[t24, t25], argTypes := #[24, 25] }
  refine reg_step hR 7 (by kernel_rfl) rfl fun K hK => ?_
  try simp only [Act.put, List.getElem_toArray, List.getElem_cons_succ, List.getElem_cons_zero, List.setIfInBounds_toArray, List.set_cons_zero, List.set_cons_succ]
  go_simp
  refine (refNumber_any N _ (hr0.later B3) (by omega) (by omega)).mono ?_; rintro x w4 ⟨v4, rfl, ho4, hb4⟩; rw [q3.out] at ho4; obtain ⟨A4, c4, rfl, hr4⟩ := ho4.rd; have hs4 : ∀ W, Old w4 W → _ := fun W h => run_str (hr4.below h)
  refine hK.out _ _ ?_ ?_
  · exact hb4
  have B4 := Lib.hid (bl_call B3.out hb4)
  clear hb4
  clear hK K
  try simp only [Act.put, List.getElem_toArray, List.getElem_cons_succ, List.getElem_cons_zero, List.setIfInBounds_toArray, List.set_cons_zero, List.set_cons_succ]
  refine reg_take (v := ?_) hR 8 rfl (by kernel_rfl) (by kernel_rfl) (by kernel_rfl) (fun _ _ _ h => h) (by rfl) ?_ ?_
  rotate_left
  · intro W hW; go_simp; try with_reducible rfl
  try simp only [Act.put, List.getElem_toArray, List.getElem_cons_succ, List.getElem_cons_zero, List.setIfInBounds_toArray, List.set_cons_zero, List.set_cons_succ]
  refine reg_take (v := ?_) hR 9 rfl (by kernel_rfl) (by kernel_rfl) (by kernel_rfl) (fun _ _ _ h => h) (by rfl) ?_ ?_
  rotate_left
  · intro W hW; go_simp; try with_reducible rfl
  try simp only [Act.put, List.getElem_toArray, List.getElem_cons_succ, List.getElem_cons_zero, List.setIfInBounds_toArray, List.set_cons_zero, List.set_cons_succ]
  refine reg_take (v := ?_) hR 10 rfl (by kernel_rfl) (by kernel_rfl) (by kernel_rfl) (fun _ _ _ h => h) (by rfl) ?_ ?_
  rotate_left
  · intro W hW; go_simp; try with_reducible rfl
  try simp only [Act.put, List.getElem_toArray, List.getElem_cons_succ, List.getElem_cons_zero, List.setIfInBounds_toArray, List.set_cons_zero, List.set_cons_succ]
  refine reg_take (v := ?_) hR 11 rfl (by kernel_rfl) (by kernel_rfl) (by kernel_rfl) (fun _ _ _ h => h) (by rfl) ?_ ?_
  rotate_left
  · intro W hW; go_simp; try with_reducible rfl
  try simp only [Act.put, List.getElem_toArray, List.getElem_cons_succ, List.getElem_cons_zero, List.setIfInBounds_toArray, List.set_cons_zero, List.set_cons_succ]
  refine reg_take (v := ?_) hR 13 rfl (by kernel_rfl) (by kernel_rfl) (by kernel_rfl) (fun _ _ _ h => h) (by rfl) ?_ ?_
  rotate_left
  · intro W hW; go_simp; try with_reducible rfl
  try simp only [Act.put, List.getElem_toArray, List.getElem_cons_succ, List.getElem_cons_zero, List.setIfInBounds_toArray, List.set_cons_zero, List.set_cons_succ]
  refine reg_take (v := ?_) hR 17 rfl (by kernel_rfl) (by kernel_rfl) (by kernel_rfl) (fun _ _ _ h => h) (by rfl) ?_ ?_
  rotate_left
  · intro W hW; go_simp; try with_reducible rfl
  try simp only [Act.put, List.getElem_toArray, List.getElem_cons_succ, List.getElem_cons_zero, List.setIfInBounds_toArray, List.set_cons_zero, List.set_cons_succ]
  refine reg_take (v := ?_) hR 18 rfl (by kernel_rfl) (by kernel_rfl) (by kernel_rfl) (fun _ _ _ h => h) (by rfl) ?_ ?_
  rotate_left
  · intro W hW; go_simp; try with_reducible rfl
  try simp only [Act.put, List.getElem_toArray, List.getElem_cons_succ, List.getElem_cons_zero, List.setIfInBounds_toArray, List.set_cons_zero, List.set_cons_succ]
  -- STEP 12: Op.call { callee := Callee.value (Operand.func 20), args := #[t30], argTypes := #[24] }
  refine reg_step hR 12 (by kernel_rfl) rfl fun K hK => ?_
  try simp only [Act.put, List.getElem_toArray, List.getElem_cons_succ, List.getElem_cons_zero, List.setIfInBounds_toArray, List.set_cons_zero, List.set_cons_succ]
  go_simp
  refine (Own_any _ (hr0.later B4) (by omega)).mono ?_; rintro x w5 ⟨v5, rfl, ho5, hb5⟩; obtain ⟨A5, c5, rfl, hr5⟩ := ho5.rd
  refine hK.out _ _ ?_ ?_
  · exact hb5
  have B5 := Lib.hid (bl_call B4.out hb5)
  clear hb5
  clear hK K
  try simp only [Act.put, List.getElem_toArray, List.getElem_cons_succ, List.getElem_cons_zero, List.setIfInBounds_toArray, List.set_cons_zero, List.set_cons_succ]
  -- STEP 14: Op.call { callee := Callee.value (Operand.func 20), args := #[t32], argTypes := #[24] }
  refine reg_step hR 14 (by kernel_rfl) rfl fun K hK => ?_
  try simp only [Act.put, List.getElem_toArray, List.getElem_cons_succ, List.getElem_cons_zero, List.setIfInBounds_toArray, List.set_cons_zero, List.set_cons_succ]
  go_simp
  refine (Own_any _ (hr1.later B5) (by omega)).mono ?_; rintro x w6 ⟨v6, rfl, ho6, hb6⟩; obtain ⟨A6, c6, rfl, hr6⟩ := ho6.rd; have hr5' := (hr5.below hb6).more hb6.size
  refine hK.out _ _ ?_ ?_
  · exact hb6
  have B6 := Lib.hid (bl_call B5.out hb6)
  clear hb6
  clear hK K
  try simp only [Act.put, List.getElem_toArray, List.getElem_cons_succ, List.getElem_cons_zero, List.setIfInBounds_toArray, List.set_cons_zero, List.set_cons_succ]
  -- STEP 15: Op.call { callee := Callee.value (Operand.func 22), args := #[t31, t33], argTypes := #[24, 24] }
  refine reg_step hR 15 (by kernel_rfl) rfl fun K hK => ?_
  try simp only [Act.put, List.getElem_toArray, List.getElem_cons_succ, List.getElem_cons_zero, List.setIfInBounds_toArray, List.set_cons_zero, List.set_cons_succ]
  go_simp
  refine (Block_any _ hr5' (by rw [e0.out]; omega) hr6 (by rw [e1.out]; omega)).mono ?_; rintro x w7 ⟨v7, rfl, ho7, hb7⟩; rw [q7.out] at ho7; obtain ⟨A7, c7, rfl, hr7⟩ := ho7.rd; have hs7 : ∀ W, Old w7 W → _ := fun W h => run_str (hr7.below h)
  refine hK.out _ _ ?_ ?_
  · exact hb7
  have B7 := Lib.hid (bl_call B6.out hb7)
  clear hb7
  clear hK K
  try simp only [Act.put, List.getElem_toArray, List.getElem_cons_succ, List.getElem_cons_zero, List.setIfInBounds_toArray, List.set_cons_zero, List.set_cons_succ]
  refine reg_take (v := ?_) hR 16 rfl (by kernel_rfl) (by kernel_rfl) (by kernel_rfl) (fun _ _ _ h => h) (by rfl) ?_ ?_
  rotate_left
  · intro W hW; go_simp; try with_reducible rfl
  try simp only [Act.put, List.getElem_toArray, List.getElem_cons_succ, List.getElem_cons_zero, List.setIfInBounds_toArray, List.set_cons_zero, List.set_cons_succ]
  -- STEP 19: Op.call { callee := Callee.value (Operand.func 23), args := #[t36, t37], argTypes := #[24, 24] }
  refine reg_step hR 19 (by kernel_rfl) rfl fun K hK => ?_
  try simp only [Act.put, List.getElem_toArray, List.getElem_cons_succ, List.getElem_cons_zero, List.setIfInBounds_toArray, List.set_cons_zero, List.set_cons_succ]
  go_simp
  refine (refBlock_any _ (hr0.later B7) (by omega) (hr1.later B7) (by omega)).mono ?_; rintro x w8 ⟨v8, rfl, ho8, hb8⟩; rw [q7.out] at ho8; obtain ⟨A8, c8, rfl, hr8⟩ := ho8.rd; have hs8 : ∀ W, Old w8 W → _ := fun W h => run_str (hr8.below h)
  refine hK.out _ _ ?_ ?_
  · exact hb8
  have B8 := Lib.hid (bl_call B7.out hb8)
  clear hb8
  clear hK K
  try simp only [Act.put, List.getElem_toArray, List.getElem_cons_succ, List.getElem_cons_zero, List.setIfInBounds_toArray, List.set_cons_zero, List.set_cons_succ]
  refine reg_take (v := ?_) hR 20 rfl (by kernel_rfl) (by kernel_rfl) (by kernel_rfl) (fun _ _ _ h => h) (by rfl) ?_ ?_
  rotate_left
  · intro W hW; go_simp; try with_reducible rfl
  try simp only [Act.put, List.getElem_toArray, List.getElem_cons_succ, List.getElem_cons_zero, List.setIfInBounds_toArray, List.set_cons_zero, List.set_cons_succ]
  refine reg_take (v := ?_) hR 21 rfl (by kernel_rfl) (by kernel_rfl) (by kernel_rfl) (fun _ _ _ h => h) (by rfl) ?_ ?_
  rotate_left
  · intro W hW; go_simp; try with_reducible rfl
  try simp only [Act.put, List.getElem_toArray, List.getElem_cons_succ, List.getElem_cons_zero, List.setIfInBounds_toArray, List.set_cons_zero, List.set_cons_succ]
  refine reg_take (v := ?_) hR 22 rfl (by kernel_rfl) (by kernel_rfl) (by kernel_rfl) (fun _ _ _ h => h) (by rfl) ?_ ?_
  rotate_left
  · intro W hW; go_simp; try with_reducible rfl
  try simp only [Act.put, List.getElem_toArray, List.getElem_cons_succ, List.getElem_cons_zero, List.setIfInBounds_toArray, List.set_cons_zero, List.set_cons_succ]
  refine reg_take (v := ?_) hR 23 rfl (by kernel_rfl) (by kernel_rfl) (by kernel_rfl) (fun _ _ _ h => h) (by rfl) ?_ ?_
  rotate_left
  · intro W hW; go_simp; try with_reducible rfl
  try simp only [Act.put, List.getElem_toArray, List.getElem_cons_succ, List.getElem_cons_zero, List.setIfInBounds_toArray, List.set_cons_zero, List.set_cons_succ]
  refine reg_take (v := ?_) hR 24 rfl (by kernel_rfl) (by kernel_rfl) (by kernel_rfl) (fun _ _ _ h => h) (by rfl) ?_ ?_
  rotate_left
  · intro W hW; go_simp; try with_reducible rfl
  try simp only [Act.put, List.getElem_toArray, List.getElem_cons_succ, List.getElem_cons_zero, List.setIfInBounds_toArray, List.set_cons_zero, List.set_cons_succ]
  refine reg_take (v := ?_) hR 26 rfl (by kernel_rfl) (by kernel_rfl) (by kernel_rfl) (fun _ _ _ h => h) (by rfl) ?_ ?_
  rotate_left
  · intro W hW; go_simp; try with_reducible rfl
  try simp only [Act.put, List.getElem_toArray, List.getElem_cons_succ, List.getElem_cons_zero, List.setIfInBounds_toArray, List.set_cons_zero, List.set_cons_succ]
  refine reg_take (v := ?_) hR 27 rfl (by kernel_rfl) (by kernel_rfl) (by kernel_rfl) (fun _ _ _ h => h) (by rfl) ?_ ?_
  rotate_left
  · intro W hW; go_simp; try with_reducible rfl
  try simp only [Act.put, List.getElem_toArray, List.getElem_cons_succ, List.getElem_cons_zero, List.setIfInBounds_toArray, List.set_cons_zero, List.set_cons_succ]
  refine reg_take (v := ?_) hR 30 rfl (by kernel_rfl) (by kernel_rfl) (by kernel_rfl) (fun _ _ _ h => h) (by rfl) ?_ ?_
  rotate_left
  · intro W hW; go_simp; try with_reducible rfl
  try simp only [Act.put, List.getElem_toArray, List.getElem_cons_succ, List.getElem_cons_zero, List.setIfInBounds_toArray, List.set_cons_zero, List.set_cons_succ]
  refine reg_take (v := ?_) hR 31 rfl (by kernel_rfl) (by kernel_rfl) (by kernel_rfl) (fun _ _ _ h => h) (by rfl) ?_ ?_
  rotate_left
  · intro W hW; go_simp; try with_reducible rfl
  try simp only [Act.put, List.getElem_toArray, List.getElem_cons_succ, List.getElem_cons_zero, List.setIfInBounds_toArray, List.set_cons_zero, List.set_cons_succ]
  refine reg_take (v := ?_) hR 32 rfl (by kernel_rfl) (by kernel_rfl) (by kernel_rfl) (fun _ _ _ h => h) (by rfl) ?_ ?_
  rotate_left
  · intro W hW; go_simp; try with_reducible rfl
  try simp only [Act.put, List.getElem_toArray, List.getElem_cons_succ, List.getElem_cons_zero, List.setIfInBounds_toArray, List.set_cons_zero, List.set_cons_succ]
  -- STEP 25: Op.call { callee := Callee.value (Operand.func 20), args := #[t43], argTypes := #[24] }
  refine reg_step hR 25 (by kernel_rfl) rfl fun K hK => ?_
  try simp only [Act.put, List.getElem_toArray, List.getElem_cons_succ, List.getElem_cons_zero, List.setIfInBounds_toArray, List.set_cons_zero, List.set_cons_succ]
  go_simp
  refine (Own_any _ (hr0.later B8) (by omega)).mono ?_; rintro x w9 ⟨v9, rfl, ho9, hb9⟩; obtain ⟨A9, c9, rfl, hr9⟩ := ho9.rd
  refine hK.out _ _ ?_ ?_
  · exact hb9
  have B9 := Lib.hid (bl_call B8.out hb9)
  clear hb9
  clear hK K
  try simp only [Act.put, List.getElem_toArray, List.getElem_cons_succ, List.getElem_cons_zero, List.setIfInBounds_toArray, List.set_cons_zero, List.set_cons_succ]
  -- STEP 28: Op.call { callee := Callee.value (Operand.func 18), args := #[t44, t45, t46], argTypes := #[24, 25, 3] }
  refine reg_step hR 28 (by kernel_rfl) rfl fun K hK => ?_
  try simp only [Act.put, List.getElem_toArray, List.getElem_cons_succ, List.getElem_cons_zero, List.setIfInBounds_toArray, List.set_cons_zero, List.set_cons_succ]
  go_simp
  refine (Word_any _ _ _ hr9 (by rw [e0.out]; omega) (by omega) (by omega)).mono ?_; rintro x w10 ⟨v10, rfl, ho10, hb10⟩; rw [Int.toNat_natCast, q10.out] at ho10; obtain ⟨A10, c10, rfl, hr10⟩ := ho10.rd; have hs10 : ∀ W, Old w10 W → _ := fun W h => run_str (hr10.below h)
  refine hK.out _ _ ?_ ?_
  · exact hb10
  have B10 := Lib.hid (bl_call B9.out hb10)
  clear hb10
  clear hK K
  try simp only [Act.put, List.getElem_toArray, List.getElem_cons_succ, List.getElem_cons_zero, List.setIfInBounds_toArray, List.set_cons_zero, List.set_cons_succ]
  refine reg_take (v := ?_) hR 29 rfl (by kernel_rfl) (by kernel_rfl) (by kernel_rfl) (fun _ _ _ h => h) (by rfl) ?_ ?_
  rotate_left
  · intro W hW; go_simp; try with_reducible rfl
  try simp only [Act.put, List.getElem_toArray, List.getElem_cons_succ, List.getElem_cons_zero, List.setIfInBounds_toArray, List.set_cons_zero, List.set_cons_succ]
  -- STEP 33: Op.call { callee := Callee.value (Operand.func 24), args := #[t49, t50, t51], argTypes := #[24, 25, 3] }
  refine reg_step hR 33 (by kernel_rfl) rfl fun K hK => ?_
  try simp only [Act.put, List.getElem_toArray, List.getElem_cons_succ, List.getElem_cons_zero, List.setIfInBounds_toArray, List.set_cons_zero, List.set_cons_succ]
  go_simp
  refine (refWord_any N _ _ (hr0.later B10) (by omega) (by omega)).mono ?_; rintro x w11 ⟨v11, rfl, ho11, hb11⟩; rw [q10.out] at ho11; obtain ⟨A11, c11, rfl, hr11⟩ := ho11.rd; have hs11 : ∀ W, Old w11 W → _ := fun W h => run_str (hr11.below h)
  refine hK.out _ _ ?_ ?_
  · exact hb11
  have B11 := Lib.hid (bl_call B10.out hb11)
  clear hb11
  clear hK K
  try simp only [Act.put, List.getElem_toArray, List.getElem_cons_succ, List.getElem_cons_zero, List.setIfInBounds_toArray, List.set_cons_zero, List.set_cons_succ]
  refine reg_take (v := ?_) hR 34 rfl (by kernel_rfl) (by kernel_rfl) (by kernel_rfl) (fun _ _ _ h => h) (by rfl) ?_ ?_
  rotate_left
  · intro W hW; go_simp; try with_reducible rfl
  try simp only [Act.put, List.getElem_toArray, List.getElem_cons_succ, List.getElem_cons_zero, List.setIfInBounds_toArray, List.set_cons_zero, List.set_cons_succ]
  refine reg_take (v := ?_) hR 35 rfl (by kernel_rfl) (by kernel_rfl) (by kernel_rfl) (fun _ _ _ h => h) (by rfl) ?_ ?_
  rotate_left
  · intro W hW; go_simp; try with_reducible rfl
  try simp only [Act.put, List.getElem_toArray, List.getElem_cons_succ, List.getElem_cons_zero, List.setIfInBounds_toArray, List.set_cons_zero, List.set_cons_succ]
  refine reg_take (v := ?_) hR 36 rfl (by kernel_rfl) (by kernel_rfl) (by kernel_rfl) (fun _ _ _ h => h) (by rfl) ?_ ?_
  rotate_left
  · intro W hW; go_simp; try with_reducible rfl
  try simp only [Act.put, List.getElem_toArray, List.getElem_cons_succ, List.getElem_cons_zero, List.setIfInBounds_toArray, List.set_cons_zero, List.set_cons_succ]
  refine reg_take (v := ?_) hR 37 rfl (by kernel_rfl) (by kernel_rfl) (by kernel_rfl) (fun _ _ _ h => h) (by rfl) ?_ ?_
  rotate_left
  · intro W hW; go_simp; try with_reducible rfl
  try simp only [Act.put, List.getElem_toArray, List.getElem_cons_succ, List.getElem_cons_zero, List.setIfInBounds_toArray, List.set_cons_zero, List.set_cons_succ]
  refine reg_done (by kernel_rfl) ?_ _

  go_wp2
  go_ret
  exact ⟨rfl, B11.out⟩
end Go.Proofs.Ytilcgnghhfiflaa
