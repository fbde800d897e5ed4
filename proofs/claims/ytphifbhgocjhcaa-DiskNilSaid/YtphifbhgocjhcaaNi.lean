/- DiskNil: a disk that nobody made answers ErrNil, and nothing. -/
import Derived.Test.YtphifbhgocjhcaaLi
import Derived.Test.YtphifbhgocjhcaaFm
namespace Go.Proofs.Ytphifbhgocjhcaa
set_option linter.unusedSimpArgs false
set_option linter.unusedVariables false
open Go.RowKit Go.Maps

theorem box_act (w : World) (x : Av) : ∀ j v, x.cells[j]? = some v → (w.alloc (.cells x.cells.toArray 46)).cell? ⟨w.heap.size, j, none⟩ = some v := by
  intro j v hv
  rw [cell_of_row _ w.heap.size j _ 46 (0, 0) (heap_alloc_new w _)]
  simpa using hv
theorem Ai.one (w : World) (x : Av) {top : Nat} (h : x.ok w top) (ht : top ≤ w.heap.size) : Ai (w.alloc (.cells x.cells.toArray 46)) (w.heap.size + 1) (some ⟨w.heap.size, 0, none⟩) 1 1 [x] := by
  refine ⟨rfl, Nat.le_refl _, fun y hy => ?_, fun _ => ⟨_, rfl, by simp, fun j y hy i v hv => ?_⟩⟩
  · simp at hy
    subst hy
    have hb : Below top w (w.alloc (.cells y.cells.toArray 46)) := (Below.refl _ _).alloc ht _
    have := Bi.below h hb
    exact ⟨this.1, this.2.1, fun hn => by obtain ⟨ad, e, hl, hc⟩ := this.2.2 hn; exact ⟨ad, e, by omega, hc⟩⟩
  · rcases j with _ | j
    · simp at hy
      subst hy
      rw [Nat.zero_mul, Nat.zero_add, Addr.add_mid, Nat.zero_add]
      exact box_act w x i v hv
    · simp at hy

theorem undrew {w W : World} (h : Below w.drew.heap.size w.drew W) : Below w.heap.size w W := ⟨h.os, h.tape, h.output, h.size, h.block⟩
theorem redrew {w W : World} (h : Below w.heap.size w W) : Below w.drew.heap.size w.drew W := ⟨h.os, h.tape, h.output, h.size, h.block⟩
set_option maxRecDepth 100000 in
theorem DiskNil_walk (k at_ : Int) (b : UInt8) (long : Bool) (K : Option Addr) (kc : Nat) (keep : List Bool) (w : World) (hk : Bi w w.heap.size K keep.length kc keep) :
    Calls Try.prog 5 #[.agg #[.int .i64 k, .int .i64 at_, .int .u8 (b.toNat : Int), .bool long, .slice K keep.length kc]] w fun e w' => e = .returned (.bool true) ∧ Below w.heap.size w w' := by
  obtain ⟨x, hx⟩ : ∃ x : Av, x = ⟨⟨k, at_, b, long, keep⟩, K, kc⟩ := ⟨_, rfl⟩
  have HO := Lib.hid (show x.ok w w.heap.size by rw [hx]; exact hk)
  have HX := Lib.hid (show ∀ j v, ([.int .i64 k, .int .i64 at_, .int .u8 (b.toNat : Int), .bool long, .slice K keep.length kc] : List Value)[j]? = some v → (w.alloc (.cells #[.int .i64 k, .int .i64 at_, .int .u8 (b.toNat : Int), .bool long, .slice K keep.length kc] 46)).cell? ⟨w.heap.size, j, none⟩ = some v by
    have := box_act w x
    rw [hx] at this
    exact this)
  have HA : Hid (∀ W : World, Below w.heap.size w W → Ai (W.alloc (.cells #[.int .i64 k, .int .i64 at_, .int .u8 (b.toNat : Int), .bool long, .slice K keep.length kc] 46)) (W.heap.size + 1) (some ⟨W.heap.size, 0, none⟩) 1 1 [x]) := Lib.hid (fun W hW => by
    have := Ai.one W x (Bi.below HO.out hW) hW.size
    rw [hx] at this ⊢
    exact this)
  have HF : Hid (few [x] ↔ keep.length ≤ 80) := Lib.hid (by
    subst hx
    simp [few])
  have HBy : Hid (∀ W : World, Calls Try.prog 25 #[.agg #[.int .i64 k, .int .i64 at_, .int .u8 (b.toNat : Int), .bool long, .slice K keep.length kc]] W fun e w' => ∃ A' c', e = .returned (.slice A' (bytesOf x.a).length c') ∧ Rd w' w'.heap.size A' (bytesOf x.a).length c' (bytesOf x.a) ∧ Below W.heap.size W w') := Lib.hid (fun W => by
    have := bytes_any W x.a K kc
    rw [hx] at this ⊢
    exact this)
  have HB0 := Lib.hid (bl_alloc (bl0 w) (.cells #[.int .i64 k, .int .i64 at_, .int .u8 (b.toNat : Int), .bool long, .slice K keep.length kc] 46))
  clear hk hx
  go_enter Try.func5, Try.ntmps5
  go_wp2_with fail
  refine (lives_any _).mono ?_
  rintro e w1 ⟨rfl, hb⟩
  have HB1 := Lib.hid (bl_call HB0.out hb)
  have hs1 : w.heap.size < w1.heap.size := by have := hb.size; rw [size_alloc_one] at this; omega
  have q0 : w1.cell? ⟨w.heap.size, 0, none⟩ = some (.int .i64 k) := (hb.cell (by simp)).trans (HX.out 0 _ rfl)
  have q1 : w1.cell? ⟨w.heap.size, 1, none⟩ = some (.int .i64 at_) := (hb.cell (by simp)).trans (HX.out 1 _ rfl)
  have q2 : w1.cell? ⟨w.heap.size, 2, none⟩ = some (.int .u8 (b.toNat : Int)) := (hb.cell (by simp)).trans (HX.out 2 _ rfl)
  have q3 : w1.cell? ⟨w.heap.size, 3, none⟩ = some (.bool long) := (hb.cell (by simp)).trans (HX.out 3 _ rfl)
  have q4 : w1.cell? ⟨w.heap.size, 4, none⟩ = some (.slice K keep.length kc) := (hb.cell (by simp)).trans (HX.out 4 _ rfl)
  clear hb
  go_wp2_with fail
  have hsm := small_any _ (HA.out w1 HB1.out)
  by_cases hf : few [x]
  · rw [show decide (few [x]) = true from decide_eq_true hf] at hsm
    clear hf
    refine hsm.mono ?_
    rintro e w2 ⟨rfl, hw2⟩
    have hb2 : Below w1.heap.size w1 w2 := by rw [hw2]; exact bl_alloc (bl0 w1) _
    have HB2 := Lib.hid (bl_call HB1.out hb2)
    have HQ0 := Lib.hid (fun W (h : Below w2.heap.size w2 W) => (h.cell (p := ⟨w.heap.size, 0, none⟩) (Nat.lt_of_lt_of_le hs1 hb2.size)).trans ((hb2.cell hs1).trans q0))
    have HQ1 := Lib.hid (fun W (h : Below w2.heap.size w2 W) => (h.cell (p := ⟨w.heap.size, 1, none⟩) (Nat.lt_of_lt_of_le hs1 hb2.size)).trans ((hb2.cell hs1).trans q1))
    have HQ2 := Lib.hid (fun W (h : Below w2.heap.size w2 W) => (h.cell (p := ⟨w.heap.size, 2, none⟩) (Nat.lt_of_lt_of_le hs1 hb2.size)).trans ((hb2.cell hs1).trans q2))
    have HQ3 := Lib.hid (fun W (h : Below w2.heap.size w2 W) => (h.cell (p := ⟨w.heap.size, 3, none⟩) (Nat.lt_of_lt_of_le hs1 hb2.size)).trans ((hb2.cell hs1).trans q3))
    have HQ4 := Lib.hid (fun W (h : Below w2.heap.size w2 W) => (h.cell (p := ⟨w.heap.size, 4, none⟩) (Nat.lt_of_lt_of_le hs1 hb2.size)).trans ((hb2.cell hs1).trans q4))
    have q1 := HQ1.out w2 (bl0 w2)
    clear hw2 hb2 hsm q0 q2 q3 q4 HA HX HB0 HB1
    go_wp2_with fail
    refine (read_nil _ _).mono ?_
    rintro e w2' ⟨rfl, rfl⟩
    go_wp2_with fail
    clear q1
    have hR := Old.stays
    refine reg_start Old follows_mixed ?_
-- region 7 of f5: 46 operations, draws: true
    refine reg_take (v := ?_) hR 0 rfl (by kernel_rfl) (by kernel_rfl) (by kernel_rfl) (fun _ _ _ h => h) (by rfl) ?_ ?_
    rotate_left
    · intro W hW; go_simp; try with_reducible rfl
    try simp only [Act.put, List.getElem_toArray, List.getElem_cons_succ, List.getElem_cons_zero, List.setIfInBounds_toArray, List.set_cons_zero, List.set_cons_succ]
    refine reg_take (v := ?_) hR 1 rfl (by kernel_rfl) (by kernel_rfl) (by kernel_rfl) (fun _ _ _ h => h) (by rfl) ?_ ?_
    rotate_left
    · intro W hW; go_simp; try with_reducible rfl
    try simp only [Act.put, List.getElem_toArray, List.getElem_cons_succ, List.getElem_cons_zero, List.setIfInBounds_toArray, List.set_cons_zero, List.set_cons_succ]
    refine reg_take (v := ?_) hR 2 rfl (by kernel_rfl) (by kernel_rfl) (by kernel_rfl) (fun _ _ _ h => h) (by rfl) ?_ ?_
    rotate_left
    · intro W hW; go_simp; try with_reducible rfl
    try simp only [Act.put, List.getElem_toArray, List.getElem_cons_succ, List.getElem_cons_zero, List.setIfInBounds_toArray, List.set_cons_zero, List.set_cons_succ]
    refine reg_take (v := ?_) hR 3 rfl (by kernel_rfl) (by kernel_rfl) (by kernel_rfl) (fun _ _ _ h => h) (by rfl) ?_ ?_
    rotate_left
    · intro W hW; go_simp; try with_reducible rfl
    try simp only [Act.put, List.getElem_toArray, List.getElem_cons_succ, List.getElem_cons_zero, List.setIfInBounds_toArray, List.set_cons_zero, List.set_cons_succ]
    refine reg_take (v := ?_) hR 4 rfl (by kernel_rfl) (by kernel_rfl) (by kernel_rfl) (fun _ _ _ h => h) (by rfl) ?_ ?_
    rotate_left
    · intro W hW; go_simp; try with_reducible rfl
    try simp only [Act.put, List.getElem_toArray, List.getElem_cons_succ, List.getElem_cons_zero, List.setIfInBounds_toArray, List.set_cons_zero, List.set_cons_succ]
    refine reg_take (v := .int .i64 at_) hR 5 rfl (by kernel_rfl) (by kernel_rfl) (by kernel_rfl) (fun _ _ _ h => h) (by rfl) ?_ ?_
    · intro W hW; have q1 := HQ1.out W (undrew hW); go_simp
    try simp only [Act.put, List.getElem_toArray, List.getElem_cons_succ, List.getElem_cons_zero, List.setIfInBounds_toArray, List.set_cons_zero, List.set_cons_succ]
    refine reg_take (v := .agg #[.int .i64 k, .int .i64 at_, .int .u8 (b.toNat : Int), .bool long, .slice K keep.length kc]) hR 6 rfl (by kernel_rfl) (by kernel_rfl) (by kernel_rfl) (fun _ _ _ h => h) (by rfl) ?_ ?_
    · intro W hW; have q0 := HQ0.out W (undrew hW); have q1 := HQ1.out W (undrew hW); have q2 := HQ2.out W (undrew hW); have q3 := HQ3.out W (undrew hW); have q4 := HQ4.out W (undrew hW); go_simp
    try simp only [Act.put, List.getElem_toArray, List.getElem_cons_succ, List.getElem_cons_zero, List.setIfInBounds_toArray, List.set_cons_zero, List.set_cons_succ]
    -- STEP 7: Op.call { callee := Callee.value (Operand.func 25), args := #[t25], argTypes := #[46] }
    refine reg_step hR 7 (by kernel_rfl) rfl fun K hK => ?_
    try simp only [Act.put, List.getElem_toArray, List.getElem_cons_succ, List.getElem_cons_zero, List.setIfInBounds_toArray, List.set_cons_zero, List.set_cons_succ]
    go_simp
    refine (HBy.out _).mono ?_; rintro x w3 ⟨A', c', rfl, hr1, hb1⟩
    have HB3 := Lib.hid (undrew hb1); clear hr1 hb1
    refine hK.out _ _ ?_ ?_
    · exact redrew HB3.out
    clear hK K
    try simp only [Act.put, List.getElem_toArray, List.getElem_cons_succ, List.getElem_cons_zero, List.setIfInBounds_toArray, List.set_cons_zero, List.set_cons_succ]
    -- STEP 8: Op.call { callee := Callee.value (Operand.func 12), args := #[t22, t24, t26], argTypes := #[22, 3, 27] }
    refine reg_step hR 8 (by kernel_rfl) rfl fun K hK => ?_
    try simp only [Act.put, List.getElem_toArray, List.getElem_cons_succ, List.getElem_cons_zero, List.setIfInBounds_toArray, List.set_cons_zero, List.set_cons_succ]
    go_simp
    refine (write_nil _ _ _).mono ?_; rintro x w12 ⟨rfl, rfl⟩
    refine hK.out _ _ ?_ ?_
    · exact hR.refl _
    clear hK K
    try simp only [Act.put, List.getElem_toArray, List.getElem_cons_succ, List.getElem_cons_zero, List.setIfInBounds_toArray, List.set_cons_zero, List.set_cons_succ]
    refine reg_take (v := ?_) hR 9 rfl (by kernel_rfl) (by kernel_rfl) (by kernel_rfl) (fun _ _ _ h => h) (by rfl) ?_ ?_
    rotate_left
    · intro W hW; go_simp; try with_reducible rfl
    try simp only [Act.put, List.getElem_toArray, List.getElem_cons_succ, List.getElem_cons_zero, List.setIfInBounds_toArray, List.set_cons_zero, List.set_cons_succ]
    refine reg_take (v := ?_) hR 10 rfl (by kernel_rfl) (by kernel_rfl) (by kernel_rfl) (fun _ _ _ h => h) (by rfl) ?_ ?_
    rotate_left
    · intro W hW; go_simp; try with_reducible rfl
    try simp only [Act.put, List.getElem_toArray, List.getElem_cons_succ, List.getElem_cons_zero, List.setIfInBounds_toArray, List.set_cons_zero, List.set_cons_succ]
    refine reg_take (v := ?_) hR 11 rfl (by kernel_rfl) (by kernel_rfl) (by kernel_rfl) (fun _ _ _ h => h) (by rfl) ?_ ?_
    rotate_left
    · intro W hW; go_simp; try with_reducible rfl
    try simp only [Act.put, List.getElem_toArray, List.getElem_cons_succ, List.getElem_cons_zero, List.setIfInBounds_toArray, List.set_cons_zero, List.set_cons_succ]
    refine reg_take (v := ?_) hR 12 rfl (by kernel_rfl) (by kernel_rfl) (by kernel_rfl) (fun _ _ _ h => h) (by rfl) ?_ ?_
    rotate_left
    · intro W hW; go_simp; try with_reducible rfl
    try simp only [Act.put, List.getElem_toArray, List.getElem_cons_succ, List.getElem_cons_zero, List.setIfInBounds_toArray, List.set_cons_zero, List.set_cons_succ]
    -- STEP 13: Op.call { callee := Callee.value (Operand.func 17), args := #[t31], argTypes := #[22] }
    refine reg_step hR 13 (by kernel_rfl) rfl fun K hK => ?_
    try simp only [Act.put, List.getElem_toArray, List.getElem_cons_succ, List.getElem_cons_zero, List.setIfInBounds_toArray, List.set_cons_zero, List.set_cons_succ]
    go_simp
    refine (flush_nil _).mono ?_; rintro x w13 ⟨rfl, rfl⟩
    refine hK.out _ _ ?_ ?_
    · exact hR.refl _
    clear hK K
    try simp only [Act.put, List.getElem_toArray, List.getElem_cons_succ, List.getElem_cons_zero, List.setIfInBounds_toArray, List.set_cons_zero, List.set_cons_succ]
    refine reg_take (v := ?_) hR 14 rfl (by kernel_rfl) (by kernel_rfl) (by kernel_rfl) (fun _ _ _ h => h) (by rfl) ?_ ?_
    rotate_left
    · intro W hW; go_simp; try with_reducible rfl
    try simp only [Act.put, List.getElem_toArray, List.getElem_cons_succ, List.getElem_cons_zero, List.setIfInBounds_toArray, List.set_cons_zero, List.set_cons_succ]
    refine reg_take (v := ?_) hR 15 rfl (by kernel_rfl) (by kernel_rfl) (by kernel_rfl) (fun _ _ _ h => h) (by rfl) ?_ ?_
    rotate_left
    · intro W hW; go_simp; try with_reducible rfl
    try simp only [Act.put, List.getElem_toArray, List.getElem_cons_succ, List.getElem_cons_zero, List.setIfInBounds_toArray, List.set_cons_zero, List.set_cons_succ]
    refine reg_take (v := ?_) hR 16 rfl (by kernel_rfl) (by kernel_rfl) (by kernel_rfl) (fun _ _ _ h => h) (by rfl) ?_ ?_
    rotate_left
    · intro W hW; go_simp; try with_reducible rfl
    try simp only [Act.put, List.getElem_toArray, List.getElem_cons_succ, List.getElem_cons_zero, List.setIfInBounds_toArray, List.set_cons_zero, List.set_cons_succ]
    refine reg_take (v := ?_) hR 17 rfl (by kernel_rfl) (by kernel_rfl) (by kernel_rfl) (fun _ _ _ h => h) (by rfl) ?_ ?_
    rotate_left
    · intro W hW; go_simp; try with_reducible rfl
    try simp only [Act.put, List.getElem_toArray, List.getElem_cons_succ, List.getElem_cons_zero, List.setIfInBounds_toArray, List.set_cons_zero, List.set_cons_succ]
    refine reg_take (v := ?_) hR 18 rfl (by kernel_rfl) (by kernel_rfl) (by kernel_rfl) (fun _ _ _ h => h) (by rfl) ?_ ?_
    rotate_left
    · intro W hW; go_simp; try with_reducible rfl
    try simp only [Act.put, List.getElem_toArray, List.getElem_cons_succ, List.getElem_cons_zero, List.setIfInBounds_toArray, List.set_cons_zero, List.set_cons_succ]
    refine reg_take (v := .slice K keep.length kc) hR 19 rfl (by kernel_rfl) (by kernel_rfl) (by kernel_rfl) (fun _ _ _ h => h) (by rfl) ?_ ?_
    · intro W hW; have q4 := HQ4.out W (bl_call HB3.out hW); go_simp
    try simp only [Act.put, List.getElem_toArray, List.getElem_cons_succ, List.getElem_cons_zero, List.setIfInBounds_toArray, List.set_cons_zero, List.set_cons_succ]
    -- STEP 20: Op.call { callee := Callee.value (Operand.func 23), args := #[t36, t38], argTypes := #[22, 44] }
    refine reg_step hR 20 (by kernel_rfl) rfl fun K hK => ?_
    try simp only [Act.put, List.getElem_toArray, List.getElem_cons_succ, List.getElem_cons_zero, List.setIfInBounds_toArray, List.set_cons_zero, List.set_cons_succ]
    go_simp
    refine (crash_nil _ _).mono ?_; rintro x w14 ⟨rfl, rfl⟩
    refine hK.out _ _ ?_ ?_
    · exact hR.refl _
    clear hK K
    try simp only [Act.put, List.getElem_toArray, List.getElem_cons_succ, List.getElem_cons_zero, List.setIfInBounds_toArray, List.set_cons_zero, List.set_cons_succ]
    refine reg_take (v := ?_) hR 21 rfl (by kernel_rfl) (by kernel_rfl) (by kernel_rfl) (fun _ _ _ h => h) (by rfl) ?_ ?_
    rotate_left
    · intro W hW; go_simp; try with_reducible rfl
    try simp only [Act.put, List.getElem_toArray, List.getElem_cons_succ, List.getElem_cons_zero, List.setIfInBounds_toArray, List.set_cons_zero, List.set_cons_succ]
    refine reg_take (v := ?_) hR 22 rfl (by kernel_rfl) (by kernel_rfl) (by kernel_rfl) (fun _ _ _ h => h) (by rfl) ?_ ?_
    rotate_left
    · intro W hW; go_simp; try with_reducible rfl
    try simp only [Act.put, List.getElem_toArray, List.getElem_cons_succ, List.getElem_cons_zero, List.setIfInBounds_toArray, List.set_cons_zero, List.set_cons_succ]
    refine reg_take (v := ?_) hR 23 rfl (by kernel_rfl) (by kernel_rfl) (by kernel_rfl) (fun _ _ _ h => h) (by rfl) ?_ ?_
    rotate_left
    · intro W hW; go_simp; try with_reducible rfl
    try simp only [Act.put, List.getElem_toArray, List.getElem_cons_succ, List.getElem_cons_zero, List.setIfInBounds_toArray, List.set_cons_zero, List.set_cons_succ]
    refine reg_take (v := ?_) hR 24 rfl (by kernel_rfl) (by kernel_rfl) (by kernel_rfl) (fun _ _ _ h => h) (by rfl) ?_ ?_
    rotate_left
    · intro W hW; go_simp; try with_reducible rfl
    try simp only [Act.put, List.getElem_toArray, List.getElem_cons_succ, List.getElem_cons_zero, List.setIfInBounds_toArray, List.set_cons_zero, List.set_cons_succ]
    -- STEP 25: Op.call { callee := Callee.value (Operand.func 13), args := #[t43], argTypes := #[22] }
    refine reg_step hR 25 (by kernel_rfl) rfl fun K hK => ?_
    try simp only [Act.put, List.getElem_toArray, List.getElem_cons_succ, List.getElem_cons_zero, List.setIfInBounds_toArray, List.set_cons_zero, List.set_cons_succ]
    go_simp
    refine (cached_nil _).mono ?_; rintro x w15 ⟨rfl, rfl⟩
    refine hK.out _ _ ?_ ?_
    · exact hR.refl _
    clear hK K
    try simp only [Act.put, List.getElem_toArray, List.getElem_cons_succ, List.getElem_cons_zero, List.setIfInBounds_toArray, List.set_cons_zero, List.set_cons_succ]
    refine reg_take (v := ?_) hR 26 rfl (by kernel_rfl) (by kernel_rfl) (by kernel_rfl) (fun _ _ _ h => h) (by rfl) ?_ ?_
    rotate_left
    · intro W hW; go_simp; try with_reducible rfl
    try simp only [Act.put, List.getElem_toArray, List.getElem_cons_succ, List.getElem_cons_zero, List.setIfInBounds_toArray, List.set_cons_zero, List.set_cons_succ]
    refine reg_take (v := ?_) hR 27 rfl (by kernel_rfl) (by kernel_rfl) (by kernel_rfl) (fun _ _ _ h => h) (by rfl) ?_ ?_
    rotate_left
    · intro W hW; go_simp; try with_reducible rfl
    try simp only [Act.put, List.getElem_toArray, List.getElem_cons_succ, List.getElem_cons_zero, List.setIfInBounds_toArray, List.set_cons_zero, List.set_cons_succ]
    refine reg_take (v := ?_) hR 28 rfl (by kernel_rfl) (by kernel_rfl) (by kernel_rfl) (fun _ _ _ h => h) (by rfl) ?_ ?_
    rotate_left
    · intro W hW; go_simp; try with_reducible rfl
    try simp only [Act.put, List.getElem_toArray, List.getElem_cons_succ, List.getElem_cons_zero, List.setIfInBounds_toArray, List.set_cons_zero, List.set_cons_succ]
    refine reg_take (v := ?_) hR 29 rfl (by kernel_rfl) (by kernel_rfl) (by kernel_rfl) (fun _ _ _ h => h) (by rfl) ?_ ?_
    rotate_left
    · intro W hW; go_simp; try with_reducible rfl
    try simp only [Act.put, List.getElem_toArray, List.getElem_cons_succ, List.getElem_cons_zero, List.setIfInBounds_toArray, List.set_cons_zero, List.set_cons_succ]
    refine reg_take (v := ?_) hR 30 rfl (by kernel_rfl) (by kernel_rfl) (by kernel_rfl) (fun _ _ _ h => h) (by rfl) ?_ ?_
    rotate_left
    · intro W hW; go_simp; try with_reducible rfl
    try simp only [Act.put, List.getElem_toArray, List.getElem_cons_succ, List.getElem_cons_zero, List.setIfInBounds_toArray, List.set_cons_zero, List.set_cons_succ]
    -- STEP 31: Op.call { callee := Callee.value (Operand.func 15), args := #[t49], argTypes := #[22] }
    refine reg_step hR 31 (by kernel_rfl) rfl fun K hK => ?_
    try simp only [Act.put, List.getElem_toArray, List.getElem_cons_succ, List.getElem_cons_zero, List.setIfInBounds_toArray, List.set_cons_zero, List.set_cons_succ]
    go_simp
    refine (size_nil _).mono ?_; rintro x w16 ⟨rfl, rfl⟩
    refine hK.out _ _ ?_ ?_
    · exact hR.refl _
    clear hK K
    try simp only [Act.put, List.getElem_toArray, List.getElem_cons_succ, List.getElem_cons_zero, List.setIfInBounds_toArray, List.set_cons_zero, List.set_cons_succ]
    refine reg_take (v := ?_) hR 32 rfl (by kernel_rfl) (by kernel_rfl) (by kernel_rfl) (fun _ _ _ h => h) (by rfl) ?_ ?_
    rotate_left
    · intro W hW; go_simp; try with_reducible rfl
    try simp only [Act.put, List.getElem_toArray, List.getElem_cons_succ, List.getElem_cons_zero, List.setIfInBounds_toArray, List.set_cons_zero, List.set_cons_succ]
    refine reg_take (v := ?_) hR 33 rfl (by kernel_rfl) (by kernel_rfl) (by kernel_rfl) (fun _ _ _ h => h) (by rfl) ?_ ?_
    rotate_left
    · intro W hW; go_simp; try with_reducible rfl
    try simp only [Act.put, List.getElem_toArray, List.getElem_cons_succ, List.getElem_cons_zero, List.setIfInBounds_toArray, List.set_cons_zero, List.set_cons_succ]
    refine reg_take (v := ?_) hR 34 rfl (by kernel_rfl) (by kernel_rfl) (by kernel_rfl) (fun _ _ _ h => h) (by rfl) ?_ ?_
    rotate_left
    · intro W hW; go_simp; try with_reducible rfl
    try simp only [Act.put, List.getElem_toArray, List.getElem_cons_succ, List.getElem_cons_zero, List.setIfInBounds_toArray, List.set_cons_zero, List.set_cons_succ]
    refine reg_take (v := ?_) hR 35 rfl (by kernel_rfl) (by kernel_rfl) (by kernel_rfl) (fun _ _ _ h => h) (by rfl) ?_ ?_
    rotate_left
    · intro W hW; go_simp; try with_reducible rfl
    try simp only [Act.put, List.getElem_toArray, List.getElem_cons_succ, List.getElem_cons_zero, List.setIfInBounds_toArray, List.set_cons_zero, List.set_cons_succ]
    -- STEP 36: Op.call { callee := Callee.value (Operand.func 29), args := #[t54], argTypes := #[22] }
    refine reg_step hR 36 (by kernel_rfl) rfl fun K hK => ?_
    try simp only [Act.put, List.getElem_toArray, List.getElem_cons_succ, List.getElem_cons_zero, List.setIfInBounds_toArray, List.set_cons_zero, List.set_cons_succ]
    go_simp
    refine (image_nil _).mono ?_; rintro x w17 ⟨rfl, rfl⟩
    refine hK.out _ _ ?_ ?_
    · exact hR.refl _
    clear hK K
    try simp only [Act.put, List.getElem_toArray, List.getElem_cons_succ, List.getElem_cons_zero, List.setIfInBounds_toArray, List.set_cons_zero, List.set_cons_succ]
    refine reg_take (v := ?_) hR 37 rfl (by kernel_rfl) (by kernel_rfl) (by kernel_rfl) (fun _ _ _ h => h) (by rfl) ?_ ?_
    rotate_left
    · intro W hW; go_simp; try with_reducible rfl
    try simp only [Act.put, List.getElem_toArray, List.getElem_cons_succ, List.getElem_cons_zero, List.setIfInBounds_toArray, List.set_cons_zero, List.set_cons_succ]
    refine reg_take (v := ?_) hR 38 rfl (by kernel_rfl) (by kernel_rfl) (by kernel_rfl) (fun _ _ _ h => h) (by rfl) ?_ ?_
    rotate_left
    · intro W hW; go_simp; try with_reducible rfl
    try simp only [Act.put, List.getElem_toArray, List.getElem_cons_succ, List.getElem_cons_zero, List.setIfInBounds_toArray, List.set_cons_zero, List.set_cons_succ]
    refine reg_take (v := ?_) hR 39 rfl (by kernel_rfl) (by kernel_rfl) (by kernel_rfl) (fun _ _ _ h => h) (by rfl) ?_ ?_
    rotate_left
    · intro W hW; go_simp; try with_reducible rfl
    try simp only [Act.put, List.getElem_toArray, List.getElem_cons_succ, List.getElem_cons_zero, List.setIfInBounds_toArray, List.set_cons_zero, List.set_cons_succ]
    refine reg_take (v := ?_) hR 40 rfl (by kernel_rfl) (by kernel_rfl) (by kernel_rfl) (fun _ _ _ h => h) (by rfl) ?_ ?_
    rotate_left
    · intro W hW; go_simp; try with_reducible rfl
    try simp only [Act.put, List.getElem_toArray, List.getElem_cons_succ, List.getElem_cons_zero, List.setIfInBounds_toArray, List.set_cons_zero, List.set_cons_succ]
    refine reg_take (v := ?_) hR 41 rfl (by kernel_rfl) (by kernel_rfl) (by kernel_rfl) (fun _ _ _ h => h) (by rfl) ?_ ?_
    rotate_left
    · intro W hW; go_simp; try with_reducible rfl
    try simp only [Act.put, List.getElem_toArray, List.getElem_cons_succ, List.getElem_cons_zero, List.setIfInBounds_toArray, List.set_cons_zero, List.set_cons_succ]
    -- STEP 42: Op.call { callee := Callee.value (Operand.func 16), args := #[t60], argTypes := #[22] }
    refine reg_step hR 42 (by kernel_rfl) rfl fun K hK => ?_
    try simp only [Act.put, List.getElem_toArray, List.getElem_cons_succ, List.getElem_cons_zero, List.setIfInBounds_toArray, List.set_cons_zero, List.set_cons_succ]
    go_simp
    refine (clone_nil _).mono ?_; rintro x w18 ⟨rfl, rfl⟩
    refine hK.out _ _ ?_ ?_
    · exact hR.refl _
    clear hK K
    try simp only [Act.put, List.getElem_toArray, List.getElem_cons_succ, List.getElem_cons_zero, List.setIfInBounds_toArray, List.set_cons_zero, List.set_cons_succ]
    refine reg_take (v := ?_) hR 43 rfl (by kernel_rfl) (by kernel_rfl) (by kernel_rfl) (fun _ _ _ h => h) (by rfl) ?_ ?_
    rotate_left
    · intro W hW; go_simp; try with_reducible rfl
    try simp only [Act.put, List.getElem_toArray, List.getElem_cons_succ, List.getElem_cons_zero, List.setIfInBounds_toArray, List.set_cons_zero, List.set_cons_succ]
    refine reg_take (v := ?_) hR 44 rfl (by kernel_rfl) (by kernel_rfl) (by kernel_rfl) (fun _ _ _ h => h) (by rfl) ?_ ?_
    rotate_left
    · intro W hW; go_simp; try with_reducible rfl
    try simp only [Act.put, List.getElem_toArray, List.getElem_cons_succ, List.getElem_cons_zero, List.setIfInBounds_toArray, List.set_cons_zero, List.set_cons_succ]
    refine reg_take (v := ?_) hR 45 rfl (by kernel_rfl) (by kernel_rfl) (by kernel_rfl) (fun _ _ _ h => h) (by rfl) ?_ ?_
    rotate_left
    · intro W hW; go_simp; try with_reducible rfl
    try simp only [Act.put, List.getElem_toArray, List.getElem_cons_succ, List.getElem_cons_zero, List.setIfInBounds_toArray, List.set_cons_zero, List.set_cons_succ]
    refine reg_done (by kernel_rfl) ?_ _

    go_wp2
    go_ret
    exact ⟨rfl, bl_call HB2.out HB3.out⟩
  · rw [show decide (few [x]) = false from decide_eq_false hf] at hsm
    refine hsm.mono ?_
    rintro e w2 ⟨rfl, rfl⟩
    go_wp2
    go_ret
    exact ⟨rfl, bl_alloc HB1.out _⟩
end Go.Proofs.Ytphifbhgocjhcaa
