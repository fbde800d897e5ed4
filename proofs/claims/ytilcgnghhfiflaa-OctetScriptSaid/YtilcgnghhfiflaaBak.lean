/- OctetBack: what is put is read again; no other bytes are read so. -/
import Derived.Test.YtilcgnghhfiflaaLiv
import Derived.Test.YtilcgnghhfiflaaPur
import Derived.Test.YtilcgnghhfiflaaArr
import Derived.Test.YtilcgnghhfiflaaReg
namespace Go.Proofs.Ytilcgnghhfiflaa
open Go.RowKit

/-- A slice that came in still reads so, whatever the call has made since. -/
theorem Rd.later {w w1 : World} {n c : Nat} {A : Option Addr} {l : List UInt8} (h : Rd w w.heap.size A n c l) (hb : Hid (Below w.heap.size w w1)) : Rd w1 w1.heap.size A n c l :=
  (h.below hb.out).more hb.out.size
/-- All that lies below block B stays. -/
def Sb (B : Nat) (w w' : World) : Prop := Below B w w'
theorem Sb.stays (B : Nat) : Stays (Sb B) := ⟨fun w => Below.refl _ w, fun h k => Below.trans h k⟩
theorem ofAlloc {w W : World} {o : Obj} (h : Hid (Below (w.alloc o).heap.size (w.alloc o) W)) : Hid (Below w.heap.size w W) := Lib.hid (bl_call (bl_alloc (bl0 w) o) h.out)
theorem bl_drew {w w1 : World} (h : Below w.heap.size w w1) : Below w.heap.size w w1.drew := h.drew
theorem Rd.recapN {w : World} {top n m c : Nat} {A : Option Addr} {l : List UInt8} (h : Rd w top A n c l) (hn : n = m) : Rd w top A m c l := by subst hn; exact h

theorem rdNum_ne (l : List UInt8) : (rdNum l 0).2.2 ≠ 1 := by
  unfold rdNum
  rw [if_pos rfl]
  split
  · split
    · exact (by decide : (4 : Int) ≠ 1)
    · exact (by decide : (0 : Int) ≠ 1)
  · exact (by decide : (5 : Int) ≠ 1)
theorem rdBlk_len (l : List UInt8) : (rdBlk l 0).1.length + (rdBlk l 0).2.1.length ≤ l.length := by
  have h1 := rdNum_len l 0
  unfold rdBlk
  rw [if_pos rfl]
  split
  · unfold tk
    split
    · split
      · simp only [List.length_take, List.length_drop]; omega
      · simp only [List.length_nil]; omega
    · simp only [List.length_nil]; omega
  · simp
theorem Rd.drew' {w : World} {n c : Nat} {A : Option Addr} {l : List UInt8} (h : Rd w w.heap.size A n c l) : Rd w.drew w.drew.heap.size A n c l := h
theorem mask_word (M : Nat) (sz : Int) (hM : M < 18446744073709551616) :
    bits BinOp.and IntKind.u64 (M : Int) (18446744073709551615 / 2 ^ (64 - 8 * min (max sz 1) 8).toNat) = ((leNat (wordB M (min (max sz 1) 8).toNat) : Nat) : Int) := by
  rw [leNat_wordB]
  obtain ⟨k, hk, k1, k8⟩ : ∃ k : Nat, min (max sz 1) 8 = (k : Int) ∧ 1 ≤ k ∧ k ≤ 8 := ⟨(min (max sz 1) 8).toNat, by omega, by omega, by omega⟩
  rw [hk, Int.toNat_natCast, show (64 - 8 * (k : Int)).toNat = 64 - 8 * k from by omega]
  have hm : ∀ j : Fin 9, 1 ≤ j.val → (18446744073709551615 : Int) / 2 ^ (64 - 8 * j.val) = ((2 ^ (8 * j.val) - 1 : Nat) : Int) := by decide +kernel
  have hlt : ∀ j : Fin 9, 2 ^ (8 * j.val) - 1 < 18446744073709551616 := by decide +kernel
  rw [hm ⟨k, by omega⟩ k1, u64_and_nat M _ hM (hlt ⟨k, by omega⟩), Nat.and_two_pow_sub_one_eq_mod]

set_option maxHeartbeats 4000000 in
theorem OctetBack_walk (A0 : Option Addr) (n0 c0 : Nat) (l0 : List UInt8) (A1 : Option Addr) (n1 c1 : Nat) (l1 : List UInt8) (n m : Int) (D : List UInt8) (sz : Int) (w : World)
    (hr0 : Rd w w.heap.size A0 n0 c0 l0) (hr1 : Rd w w.heap.size A1 n1 c1 l1) (h0 : 0 ≤ n) (h1 : n ≤ 18446744073709551615) (h2 : 0 ≤ m) (h3 : m ≤ 18446744073709551615) (hD : D.length = 32)
    (_h4 : -9223372036854775808 ≤ sz) (_h5 : sz ≤ 9223372036854775807) :
    Calls Try.prog 7 #[.slice A0 n0 c0, .slice A1 n1 c1, .int .u64 n, .int .u64 m, .agg (cs8 D).toArray, .int .i64 sz] w fun x w' => x = .returned (.bool true) ∧ Below w.heap.size w w' := by
  by_cases k0 : 3000 < (n0 : Int)
  · go_enter Try.func7, Try.ntmps7
    go_wp2_with fail
    refine (lives_any _).mono ?_; rintro x w1 ⟨rfl, hb1⟩
    go_wp2
    go_ret
    exact ⟨rfl, bl_call (bl_alloc (bl0 w) _) hb1⟩
  by_cases k1 : 3000 < (n1 : Int)
  · go_enter Try.func7, Try.ntmps7
    go_wp2_with fail
    refine (lives_any _).mono ?_; rintro x w1 ⟨rfl, hb1⟩
    go_wp2
    go_ret
    exact ⟨rfl, bl_call (bl_alloc (bl0 w) _) hb1⟩
  obtain ⟨N, rfl⟩ := Int.eq_ofNat_of_zero_le h0
  obtain ⟨M, rfl⟩ := Int.eq_ofNat_of_zero_le h2
  have e0 := Lib.hid hr0.len
  have e1 := Lib.hid hr1.len
  obtain ⟨X3, hX3⟩ : ∃ L, L = numB N ++ (numB l1.length ++ l1) := ⟨_, rfl⟩
  obtain ⟨X4, hX4⟩ : ∃ L, L = X3 ++ numB M := ⟨_, rfl⟩
  obtain ⟨X5, hX5⟩ : ∃ L, L = X4 ++ wordB M (min (max sz 1) 8).toNat := ⟨_, rfl⟩
  obtain ⟨X6, hX6⟩ : ∃ L, L = X5 ++ D := ⟨_, rfl⟩
  have s3 : X3.length ≤ 3020 := by rw [hX3]; simp [numB_length]; have := numSize_bd N; have := numSize_bd l1.length; have := hr1.len; omega
  have s4 : X4.length ≤ 3040 := by rw [hX4]; simp [numB_length]; have := numSize_bd M; omega
  have s5 : X5.length ≤ 3050 := by rw [hX5]; simp [wordB]; omega
  have s6 : X6.length ≤ 3100 := by rw [hX6]; simp; omega
  have q3 := Lib.hid hX3.symm
  have q4 := Lib.hid hX4.symm
  have q5 := Lib.hid hX5.symm
  have q6 := Lib.hid hX6.symm
  clear hX3 hX4 hX5 hX6
  go_enter Try.func7, Try.ntmps7
  go_wp2_with fail
  refine (lives_any _).mono ?_; rintro x w1 ⟨rfl, hb1⟩
  have Z : Hid (∀ W, Hid (Below (w.alloc (.cells (cs8 D).toArray 33)).heap.size (w.alloc (.cells (cs8 D).toArray 33)) W) → W.heap[w.heap.size]? = some (.cells (cs8 D).toArray 33 (0, 0))) :=
    Lib.hid fun W h => (h.out.block w.heap.size (by simp)).trans (heap_alloc_new w _)
  have B1 := Lib.hid (bl_drew hb1)
  clear hb1
  go_wp2_with fail
  have hR := Sb.stays (w.alloc (.cells (cs8 D).toArray 33)).heap.size
  refine reg_start (Sb (w.alloc (.cells (cs8 D).toArray 33)).heap.size) follows_mixed ?_
-- region 5 of f7: 12 operations, draws: true
  refine reg_take (v := ?_) hR 0 rfl (by kernel_rfl) (by kernel_rfl) (by kernel_rfl) (fun _ _ _ h => h) (by rfl) ?_ ?_
  rotate_left
  · intro W hW; go_simp; try with_reducible rfl
  try simp only [Act.put, List.getElem_toArray, List.getElem_cons_succ, List.getElem_cons_zero, List.setIfInBounds_toArray, List.set_cons_zero, List.set_cons_succ]
  refine reg_take (v := ?_) hR 2 rfl (by kernel_rfl) (by kernel_rfl) (by kernel_rfl) (fun _ _ _ h => h) (by rfl) ?_ ?_
  rotate_left
  · intro W hW; go_simp; try with_reducible rfl
  try simp only [Act.put, List.getElem_toArray, List.getElem_cons_succ, List.getElem_cons_zero, List.setIfInBounds_toArray, List.set_cons_zero, List.set_cons_succ]
  refine reg_take (v := ?_) hR 4 rfl (by kernel_rfl) (by kernel_rfl) (by kernel_rfl) (fun _ _ _ h => h) (by rfl) ?_ ?_
  rotate_left
  · intro W hW; go_simp; try with_reducible rfl
  try simp only [Act.put, List.getElem_toArray, List.getElem_cons_succ, List.getElem_cons_zero, List.setIfInBounds_toArray, List.set_cons_zero, List.set_cons_succ]
  refine reg_take (v := ?_) hR 6 rfl (by kernel_rfl) (by kernel_rfl) (by kernel_rfl) (fun _ _ _ h => h) (by rfl) ?_ ?_
  rotate_left
  · intro W hW; go_simp; try with_reducible rfl
  try simp only [Act.put, List.getElem_toArray, List.getElem_cons_succ, List.getElem_cons_zero, List.setIfInBounds_toArray, List.set_cons_zero, List.set_cons_succ]
  refine reg_take (v := ?_) hR 7 rfl (by kernel_rfl) (by kernel_rfl) (by kernel_rfl) (fun _ _ _ h => h) (by rfl) ?_ ?_
  rotate_left
  · intro W hW; go_simp; try with_reducible rfl
  try simp only [Act.put, List.getElem_toArray, List.getElem_cons_succ, List.getElem_cons_zero, List.setIfInBounds_toArray, List.set_cons_zero, List.set_cons_succ]
  refine reg_take (v := ?_) hR 9 rfl (by kernel_rfl) (by kernel_rfl) (by kernel_rfl) (fun _ _ _ h => h) (by rfl) ?_ ?_
  rotate_left
  · intro W hW; go_simp; try with_reducible rfl
  try simp only [Act.put, List.getElem_toArray, List.getElem_cons_succ, List.getElem_cons_zero, List.setIfInBounds_toArray, List.set_cons_zero, List.set_cons_succ]
  -- STEP 1: Op.call { callee := Callee.value (Operand.func 19), args := #[Operand.const (Value.slice none 0 0), t31], argT
  refine reg_step hR 1 (by kernel_rfl) rfl fun K hK => ?_
  try simp only [Act.put, List.getElem_toArray, List.getElem_cons_succ, List.getElem_cons_zero, List.setIfInBounds_toArray, List.set_cons_zero, List.set_cons_succ]
  go_simp
  refine (Number_any _ _ (Rd.nil _ _ _ _) (by decide) (by omega) (by omega)).mono ?_; rintro x w2 ⟨v2, rfl, ho2, hb2⟩; rw [Int.toNat_natCast, List.nil_append] at ho2; obtain ⟨A2, c2, rfl, hr2⟩ := ho2.rdN (numB_length _)
  refine hK.out _ _ ?_ ?_
  · exact hb2.mono B1.out.size
  have B2 := Lib.hid (bl_call B1.out hb2)
  clear hb2
  clear hK K
  try simp only [Act.put, List.getElem_toArray, List.getElem_cons_succ, List.getElem_cons_zero, List.setIfInBounds_toArray, List.set_cons_zero, List.set_cons_succ]
  -- STEP 3: Op.call { callee := Callee.value (Operand.func 22), args := #[t32, t33], argTypes := #[24, 24] }
  refine reg_step hR 3 (by kernel_rfl) rfl fun K hK => ?_
  try simp only [Act.put, List.getElem_toArray, List.getElem_cons_succ, List.getElem_cons_zero, List.setIfInBounds_toArray, List.set_cons_zero, List.set_cons_succ]
  go_simp
  refine (Block_any _ hr2 (by have := numSize_bd N; omega) (hr1.later (ofAlloc B2)) (by omega)).mono ?_; rintro x w3 ⟨v3, rfl, ho3, hb3⟩; obtain ⟨A3, c3, rfl, hr3⟩ := ho3.rdN (n := X3.length) (by rw [q3.out])
  refine hK.out _ _ ?_ ?_
  · exact hb3.mono B2.out.size
  have B3 := Lib.hid (bl_call B2.out hb3)
  clear hb3
  clear hK K
  try simp only [Act.put, List.getElem_toArray, List.getElem_cons_succ, List.getElem_cons_zero, List.setIfInBounds_toArray, List.set_cons_zero, List.set_cons_succ]
  -- STEP 5: Op.call { callee := Callee.value (Operand.func 19), args := #[t34, t35], argTypes := #[24, 25] }
  refine reg_step hR 5 (by kernel_rfl) rfl fun K hK => ?_
  try simp only [Act.put, List.getElem_toArray, List.getElem_cons_succ, List.getElem_cons_zero, List.setIfInBounds_toArray, List.set_cons_zero, List.set_cons_succ]
  go_simp
  refine (Number_any _ _ hr3 (by omega) (by omega) (by omega)).mono ?_; rintro x w4 ⟨v4, rfl, ho4, hb4⟩; rw [Int.toNat_natCast, q3.out] at ho4; obtain ⟨A4, c4, rfl, hr4⟩ := ho4.rdN (n := X4.length) (by rw [q4.out])
  refine hK.out _ _ ?_ ?_
  · exact hb4.mono B3.out.size
  have B4 := Lib.hid (bl_call B3.out hb4)
  clear hb4
  clear hK K
  try simp only [Act.put, List.getElem_toArray, List.getElem_cons_succ, List.getElem_cons_zero, List.setIfInBounds_toArray, List.set_cons_zero, List.set_cons_succ]
  -- STEP 8: Op.call { callee := Callee.value (Operand.func 18), args := #[t36, t37, t38], argTypes := #[24, 25, 3] }
  refine reg_step hR 8 (by kernel_rfl) rfl fun K hK => ?_
  try simp only [Act.put, List.getElem_toArray, List.getElem_cons_succ, List.getElem_cons_zero, List.setIfInBounds_toArray, List.set_cons_zero, List.set_cons_succ]
  go_simp
  refine (Word_any _ _ _ hr4 (by omega) (by omega) (by omega)).mono ?_; rintro x w5 ⟨v5, rfl, ho5, hb5⟩; rw [Int.toNat_natCast, q4.out, q5.out] at ho5
  refine hK.out _ _ ?_ ?_
  · exact hb5.mono B4.out.size
  have B5 := Lib.hid (bl_call B4.out hb5)
  have z5 := hb5.size
  clear hb5
  clear hK K
  try simp only [Act.put, List.getElem_toArray, List.getElem_cons_succ, List.getElem_cons_zero, List.setIfInBounds_toArray, List.set_cons_zero, List.set_cons_succ]
  -- STEP 10: Op.call { callee := Callee.builtin Builtin.append, args := #[t39, t40], argTypes := #[24, 24] }
  refine reg_step hR 10 (by kernel_rfl) rfl fun K hK => ?_
  try simp only [Act.put, List.getElem_toArray, List.getElem_cons_succ, List.getElem_cons_zero, List.setIfInBounds_toArray, List.set_cons_zero, List.set_cons_succ]
  rw [if_pos (by rfl)]
  refine wp_app (.tmp 39) (.tmp 40) rfl rfl ho5 rfl ((Rd.of_block (top := w5.heap.size) (Z.out w5 B5) (by have := B5.out.size; simp at this; omega)).recapN hD |>.recap (c' := 32) (Nat.le_refl _)) (by omega) z5 ?_
  intro v6 w6 ho6 hg6
  refine hK.out _ _ ?_ ?_
  · exact (Below.refl _ _).grown hg6 B5.out.size (fun g hg => Nat.le_trans B4.out.size (World.ownsRow.lt ho5 g hg).1)
  have B6 := Lib.hid (B5.out.grown hg6 B5.out.size (fun g hg => Nat.le_trans B4.out.size (World.ownsRow.lt ho5 g hg).1))
  rw [q6.out] at ho6
  clear hg6
  clear hK K
  try simp only [Act.put, List.getElem_toArray, List.getElem_cons_succ, List.getElem_cons_zero, List.setIfInBounds_toArray, List.set_cons_zero, List.set_cons_succ]
  refine reg_take (v := ?_) hR 11 rfl (by kernel_rfl) (by kernel_rfl) (by kernel_rfl) (fun _ _ _ h => h) (by rfl) ?_ ?_
  rotate_left
  · intro W hW; go_simp; try with_reducible rfl
  try simp only [Act.put, List.getElem_toArray, List.getElem_cons_succ, List.getElem_cons_zero, List.setIfInBounds_toArray, List.set_cons_zero, List.set_cons_succ]
  refine reg_done (by kernel_rfl) ?_ _

  go_wp2_with fail
  obtain ⟨A6, c6, rfl, hr6⟩ := ho6.rdN (n := X6.length) rfl
  refine (Read_any _ hr6 (by omega)).mono ?_; rintro x w7 ⟨g, rfl, hg, hR7, hb7⟩
  have B7 := Lib.hid (bl_call B6.out hb7)
  have B7d := Lib.hid (bl_call B6.out hb7).drew
  have HG := Lib.hid (Nat.le_trans B6.out.size hg)
  have HG2 : Hid (w.heap.size ≤ g) := Lib.hid (Nat.le_trans (ofAlloc B6).out.size hg)
  clear hb7 hR
  have t1 : (1 : Int) ≤ min (max sz 1) 8 := by omega
  have t2 : min (max sz 1) 8 ≤ 8 := by omega
  obtain ⟨Y3, hY3⟩ : ∃ L, L = wordB M (min (max sz 1) 8).toNat ++ D := ⟨_, rfl⟩
  obtain ⟨Y2, hY2⟩ : ∃ L, L = numB M ++ Y3 := ⟨_, rfl⟩
  obtain ⟨Y1, hY1⟩ : ∃ L, L = numB l1.length ++ (l1 ++ Y2) := ⟨_, rfl⟩
  have hX : X6 = numB N ++ Y1 := by rw [← q6.out, ← q5.out, ← q4.out, ← q3.out, hY1, hY2, hY3]; simp
  have hlen := congrArg List.length hX
  have hlen1 := congrArg List.length hY1
  have hlen2 := congrArg List.length hY2
  simp only [List.length_append] at hlen hlen1 hlen2
  have HY1 : Hid (Y1.length ≤ 3100) := Lib.hid (by omega)
  have HY2 : Hid (Y2.length ≤ 3100) := Lib.hid (by omega)
  have HY3 : Hid (Y3.length ≤ 3100) := Lib.hid (by omega)
  have hw : (wordB M (min (max sz 1) 8).toNat).length = wordLen sz := by simp [wordB, wordLen]
  have p1 := Lib.hid (show rdNum X6 0 = (N, Y1, 0) by rw [hX]; exact rdNum_put N (by omega) Y1)
  have p2 := Lib.hid (show rdBlk Y1 0 = (l1, Y2, 0) by rw [hY1]; exact rdBlk_put l1 Y2 (by have := e1.out; omega))
  have p3 := Lib.hid (show rdNum Y2 0 = (M, Y3, 0) by rw [hY2]; exact rdNum_put M (by omega) Y3)
  have p4 := Lib.hid (show tk (wordLen sz) Y3 0 = (wordB M (min (max sz 1) 8).toNat, D, 0) by rw [hY3]; exact tk_put _ _ _ hw)
  have p5 := Lib.hid (show tk 32 D 0 = (D, [], 0) by have := tk_put D [] 32 hD; rwa [List.append_nil] at this)
  have pD := Lib.hid (show pad32 D = D by rw [pad32, hD]; simp)
  have HS := Lib.hid (show (cs8 D).toArray.size = 32 by simp [cs8_length, hD])
  have harr : ∀ W, (Op.equalIn 10000 33 (.agg (cs8 D).toArray) (.agg (cs8 D).toArray)).run Try.prog W = .ok true W := fun W => by
    have := arr8 9998 33 32 Try.underlying33 D D hD hD W
    rwa [decide_eq_true rfl] at this
  have hmask := mask_word M sz (by omega)
  clear hX hlen hlen1 hlen2 hY1 hY2 hY3 hw q3 q4 q5 q6 hr2 hr3 hr4 hr6 ho2 ho3 ho4 ho5 ho6 s3 s4 s5 B1 B2 B3 B4 B5 z5 hg
  go_wp2_with fail
  have hR := Kp.stays (· = g)
  refine reg_start (Kp (· = g)) follows_mixed ?_
-- region 9 of f7: 38 operations, draws: true
  refine reg_take (v := ?_) hR 0 rfl (by kernel_rfl) (by kernel_rfl) (by kernel_rfl) (fun _ _ _ h => h) (by rfl) ?_ ?_
  rotate_left
  · intro W hW; go_simp; try with_reducible rfl
  try simp only [Act.put, List.getElem_toArray, List.getElem_cons_succ, List.getElem_cons_zero, List.setIfInBounds_toArray, List.set_cons_zero, List.set_cons_succ]
  refine reg_take (v := ?_) hR 2 rfl (by kernel_rfl) (by kernel_rfl) (by kernel_rfl) (fun _ _ _ h => h) (by rfl) ?_ ?_
  rotate_left
  · intro W hW; go_simp; try with_reducible rfl
  try simp only [Act.put, List.getElem_toArray, List.getElem_cons_succ, List.getElem_cons_zero, List.setIfInBounds_toArray, List.set_cons_zero, List.set_cons_succ]
  -- STEP 1: Op.call { callee := Callee.value (Operand.func 10), args := #[t52], argTypes := #[22] }
  refine reg_step hR 1 (by kernel_rfl) rfl fun K hK => ?_
  try simp only [Act.put, List.getElem_toArray, List.getElem_cons_succ, List.getElem_cons_zero, List.setIfInBounds_toArray, List.set_cons_zero, List.set_cons_succ]
  go_simp
  refine (RNumber_any (w := w7.drew) hR7 (by omega)).mono ?_; rintro x w8 ⟨rfl, hR8, hO8⟩; rw [p1.out] at hR8 ⊢; simp only at hR8 ⊢
  refine hK.out _ _ ?_ ?_
  · exact Kp.of_only hO8
  have B8 := Lib.hid (bl_only B7d.out hO8 HG.out)
  clear hO8
  have hs1 : ∀ W, Kp (· = g) w8 W → _ := fun W h => run_str ((hr1.below (ofAlloc B8).out).kp h (ofAlloc B8).out.size (fun k hk => by subst hk; exact HG2.out))
  clear hK K
  try simp only [Act.put, List.getElem_toArray, List.getElem_cons_succ, List.getElem_cons_zero, List.setIfInBounds_toArray, List.set_cons_zero, List.set_cons_succ]
  refine reg_take (v := ?_) hR 3 rfl (by kernel_rfl) (by kernel_rfl) (by kernel_rfl) (fun _ _ _ h => h) (by rfl) ?_ ?_
  rotate_left
  · intro W hW; go_simp; try with_reducible rfl
  try simp only [Act.put, List.getElem_toArray, List.getElem_cons_succ, List.getElem_cons_zero, List.setIfInBounds_toArray, List.set_cons_zero, List.set_cons_succ]
  refine reg_take (v := ?_) hR 4 rfl (by kernel_rfl) (by kernel_rfl) (by kernel_rfl) (fun _ _ _ h => h) (by rfl) ?_ ?_
  rotate_left
  · intro W hW; go_simp; try with_reducible rfl
  try simp only [Act.put, List.getElem_toArray, List.getElem_cons_succ, List.getElem_cons_zero, List.setIfInBounds_toArray, List.set_cons_zero, List.set_cons_succ]
  refine reg_take (v := ?_) hR 5 rfl (by kernel_rfl) (by kernel_rfl) (by kernel_rfl) (fun _ _ _ h => h) (by rfl) ?_ ?_
  rotate_left
  · intro W hW; go_simp; try with_reducible rfl
  try simp only [Act.put, List.getElem_toArray, List.getElem_cons_succ, List.getElem_cons_zero, List.setIfInBounds_toArray, List.set_cons_zero, List.set_cons_succ]
  refine reg_take (v := ?_) hR 8 rfl (by kernel_rfl) (by kernel_rfl) (by kernel_rfl) (fun _ _ _ h => h) (by rfl) ?_ ?_
  rotate_left
  · intro W hW; go_simp; try with_reducible rfl
  try simp only [Act.put, List.getElem_toArray, List.getElem_cons_succ, List.getElem_cons_zero, List.setIfInBounds_toArray, List.set_cons_zero, List.set_cons_succ]
  refine reg_take (v := ?_) hR 9 rfl (by kernel_rfl) (by kernel_rfl) (by kernel_rfl) (fun _ _ _ h => h) (by rfl) ?_ ?_
  rotate_left
  · intro W hW; go_simp; try with_reducible rfl
  try simp only [Act.put, List.getElem_toArray, List.getElem_cons_succ, List.getElem_cons_zero, List.setIfInBounds_toArray, List.set_cons_zero, List.set_cons_succ]
  -- STEP 6: Op.call { callee := Callee.value (Operand.func 12), args := #[t57], argTypes := #[22] }
  refine reg_step hR 6 (by kernel_rfl) rfl fun K hK => ?_
  try simp only [Act.put, List.getElem_toArray, List.getElem_cons_succ, List.getElem_cons_zero, List.setIfInBounds_toArray, List.set_cons_zero, List.set_cons_succ]
  go_simp
  refine (RBlock_any hR8 (by have := HY1.out; omega)).mono ?_; rintro x w9 ⟨v9, rfl, ho9, hR9, hO9⟩; rw [p2.out] at ho9 hR9; simp only at ho9 hR9; obtain ⟨A9, c9, rfl, hr9⟩ := ho9.rdN e1.out
  refine hK.out _ _ ?_ ?_
  · exact Kp.of_only hO9
  have B9 := Lib.hid (bl_only B8.out hO9 HG.out)
  clear hO9
  have hs9 : ∀ W, Kp (· = g) w9 W → _ := fun W h => run_str (hr9.beside hR9 h.only (Nat.le_refl _))
  clear hK K
  try simp only [Act.put, List.getElem_toArray, List.getElem_cons_succ, List.getElem_cons_zero, List.setIfInBounds_toArray, List.set_cons_zero, List.set_cons_succ]
  refine reg_take (v := ?_) hR 7 rfl (by kernel_rfl) (by kernel_rfl) (by kernel_rfl) (fun _ _ _ h => h) (by rfl) ?_ ?_
  rotate_left
  · intro W hW; go_simp; try with_reducible rfl
  try simp only [Act.put, List.getElem_toArray, List.getElem_cons_succ, List.getElem_cons_zero, List.setIfInBounds_toArray, List.set_cons_zero, List.set_cons_succ]
  refine reg_take (v := ?_) hR 10 rfl (by kernel_rfl) (by kernel_rfl) (by kernel_rfl) (fun _ _ _ h => h) (by rfl) ?_ ?_
  rotate_left
  · intro W hW; go_simp; try with_reducible rfl
  try simp only [Act.put, List.getElem_toArray, List.getElem_cons_succ, List.getElem_cons_zero, List.setIfInBounds_toArray, List.set_cons_zero, List.set_cons_succ]
  refine reg_take (v := ?_) hR 11 rfl (by kernel_rfl) (by kernel_rfl) (by kernel_rfl) (fun _ _ _ h => h) (by rfl) ?_ ?_
  rotate_left
  · intro W hW; go_simp; try with_reducible rfl
  try simp only [Act.put, List.getElem_toArray, List.getElem_cons_succ, List.getElem_cons_zero, List.setIfInBounds_toArray, List.set_cons_zero, List.set_cons_succ]
  refine reg_take (v := ?_) hR 12 rfl (by kernel_rfl) (by kernel_rfl) (by kernel_rfl) (fun _ _ _ h => h) (by rfl) ?_ ?_
  rotate_left
  · intro W hW; go_simp; try with_reducible rfl
  try simp only [Act.put, List.getElem_toArray, List.getElem_cons_succ, List.getElem_cons_zero, List.setIfInBounds_toArray, List.set_cons_zero, List.set_cons_succ]
  refine reg_take (v := ?_) hR 13 rfl (by kernel_rfl) (by kernel_rfl) (by kernel_rfl) (fun _ _ _ h => h) (by rfl) ?_ ?_
  rotate_left
  · intro W hW; go_simp; try with_reducible rfl
  try simp only [Act.put, List.getElem_toArray, List.getElem_cons_succ, List.getElem_cons_zero, List.setIfInBounds_toArray, List.set_cons_zero, List.set_cons_succ]
  refine reg_take (v := ?_) hR 15 rfl (by kernel_rfl) (by kernel_rfl) (by kernel_rfl) (fun _ _ _ h => h) (by rfl) ?_ ?_
  rotate_left
  · intro W hW; go_simp; try with_reducible rfl
  try simp only [Act.put, List.getElem_toArray, List.getElem_cons_succ, List.getElem_cons_zero, List.setIfInBounds_toArray, List.set_cons_zero, List.set_cons_succ]
  -- STEP 14: Op.call { callee := Callee.value (Operand.func 10), args := #[t65], argTypes := #[22] }
  refine reg_step hR 14 (by kernel_rfl) rfl fun K hK => ?_
  try simp only [Act.put, List.getElem_toArray, List.getElem_cons_succ, List.getElem_cons_zero, List.setIfInBounds_toArray, List.set_cons_zero, List.set_cons_succ]
  go_simp
  refine (RNumber_any hR9 (by have := HY2.out; omega)).mono ?_; rintro x w10 ⟨rfl, hR10, hO10⟩; rw [p3.out] at hR10 ⊢; simp only at hR10 ⊢
  refine hK.out _ _ ?_ ?_
  · exact Kp.of_only hO10
  have B10 := Lib.hid (bl_only B9.out hO10 HG.out)
  clear hO10
  clear hK K
  try simp only [Act.put, List.getElem_toArray, List.getElem_cons_succ, List.getElem_cons_zero, List.setIfInBounds_toArray, List.set_cons_zero, List.set_cons_succ]
  refine reg_take (v := ?_) hR 16 rfl (by kernel_rfl) (by kernel_rfl) (by kernel_rfl) (fun _ _ _ h => h) (by rfl) ?_ ?_
  rotate_left
  · intro W hW; go_simp; try with_reducible rfl
  try simp only [Act.put, List.getElem_toArray, List.getElem_cons_succ, List.getElem_cons_zero, List.setIfInBounds_toArray, List.set_cons_zero, List.set_cons_succ]
  refine reg_take (v := ?_) hR 17 rfl (by kernel_rfl) (by kernel_rfl) (by kernel_rfl) (fun _ _ _ h => h) (by rfl) ?_ ?_
  rotate_left
  · intro W hW; go_simp; try with_reducible rfl
  try simp only [Act.put, List.getElem_toArray, List.getElem_cons_succ, List.getElem_cons_zero, List.setIfInBounds_toArray, List.set_cons_zero, List.set_cons_succ]
  refine reg_take (v := ?_) hR 18 rfl (by kernel_rfl) (by kernel_rfl) (by kernel_rfl) (fun _ _ _ h => h) (by rfl) ?_ ?_
  rotate_left
  · intro W hW; go_simp; try with_reducible rfl
  try simp only [Act.put, List.getElem_toArray, List.getElem_cons_succ, List.getElem_cons_zero, List.setIfInBounds_toArray, List.set_cons_zero, List.set_cons_succ]
  refine reg_take (v := ?_) hR 19 rfl (by kernel_rfl) (by kernel_rfl) (by kernel_rfl) (fun _ _ _ h => h) (by rfl) ?_ ?_
  rotate_left
  · intro W hW; go_simp; try with_reducible rfl
  try simp only [Act.put, List.getElem_toArray, List.getElem_cons_succ, List.getElem_cons_zero, List.setIfInBounds_toArray, List.set_cons_zero, List.set_cons_succ]
  refine reg_take (v := ?_) hR 20 rfl (by kernel_rfl) (by kernel_rfl) (by kernel_rfl) (fun _ _ _ h => h) (by rfl) ?_ ?_
  rotate_left
  · intro W hW; go_simp; try with_reducible rfl
  try simp only [Act.put, List.getElem_toArray, List.getElem_cons_succ, List.getElem_cons_zero, List.setIfInBounds_toArray, List.set_cons_zero, List.set_cons_succ]
  refine reg_take (v := ?_) hR 22 rfl (by kernel_rfl) (by kernel_rfl) (by kernel_rfl) (fun _ _ _ h => h) (by rfl) ?_ ?_
  rotate_left
  · intro W hW; go_simp; try with_reducible rfl
  try simp only [Act.put, List.getElem_toArray, List.getElem_cons_succ, List.getElem_cons_zero, List.setIfInBounds_toArray, List.set_cons_zero, List.set_cons_succ]
  refine reg_take (v := ?_) hR 23 rfl (by kernel_rfl) (by kernel_rfl) (by kernel_rfl) (fun _ _ _ h => h) (by rfl) ?_ ?_
  rotate_left
  · intro W hW; go_simp; try with_reducible rfl
  try simp only [Act.put, List.getElem_toArray, List.getElem_cons_succ, List.getElem_cons_zero, List.setIfInBounds_toArray, List.set_cons_zero, List.set_cons_succ]
  refine reg_take (v := ?_) hR 24 rfl (by kernel_rfl) (by kernel_rfl) (by kernel_rfl) (fun _ _ _ h => h) (by rfl) ?_ ?_
  rotate_left
  · intro W hW; go_simp; try with_reducible rfl
  try simp only [Act.put, List.getElem_toArray, List.getElem_cons_succ, List.getElem_cons_zero, List.setIfInBounds_toArray, List.set_cons_zero, List.set_cons_succ]
  -- STEP 21: Op.call { callee := Callee.value (Operand.func 11), args := #[t71, t72], argTypes := #[22, 3] }
  refine reg_step hR 21 (by kernel_rfl) rfl fun K hK => ?_
  try simp only [Act.put, List.getElem_toArray, List.getElem_cons_succ, List.getElem_cons_zero, List.setIfInBounds_toArray, List.set_cons_zero, List.set_cons_succ]
  go_simp
  refine (RWord_any hR10 _ (by have := HY3.out; omega)).mono ?_; rintro x w11 ⟨rfl, hR11, hO11⟩; rw [p4.out] at hR11 ⊢; simp only at hR11 ⊢
  refine hK.out _ _ ?_ ?_
  · exact Kp.of_only hO11
  have B11 := Lib.hid (bl_only B10.out hO11 HG.out)
  clear hO11
  clear hK K
  try simp only [Act.put, List.getElem_toArray, List.getElem_cons_succ, List.getElem_cons_zero, List.setIfInBounds_toArray, List.set_cons_zero, List.set_cons_succ]
  refine reg_take (v := ?_) hR 25 rfl (by kernel_rfl) (by kernel_rfl) (by kernel_rfl) (fun _ _ _ h => h) (by rfl) ?_ ?_
  rotate_left
  · intro W hW; go_simp; try with_reducible rfl
  try simp only [Act.put, List.getElem_toArray, List.getElem_cons_succ, List.getElem_cons_zero, List.setIfInBounds_toArray, List.set_cons_zero, List.set_cons_succ]
  refine reg_take (v := ?_) hR 26 rfl (by kernel_rfl) (by kernel_rfl) (by kernel_rfl) (fun _ _ _ h => h) (by rfl) ?_ ?_
  rotate_left
  · intro W hW; go_simp; try with_reducible rfl
  try simp only [Act.put, List.getElem_toArray, List.getElem_cons_succ, List.getElem_cons_zero, List.setIfInBounds_toArray, List.set_cons_zero, List.set_cons_succ]
  refine reg_take (v := ?_) hR 27 rfl (by kernel_rfl) (by kernel_rfl) (by kernel_rfl) (fun _ _ _ h => h) (by rfl) ?_ ?_
  rotate_left
  · intro W hW; go_simp; try with_reducible rfl
  try simp only [Act.put, List.getElem_toArray, List.getElem_cons_succ, List.getElem_cons_zero, List.setIfInBounds_toArray, List.set_cons_zero, List.set_cons_succ]
  refine reg_take (v := ?_) hR 28 rfl (by kernel_rfl) (by kernel_rfl) (by kernel_rfl) (fun _ _ _ h => h) (by rfl) ?_ ?_
  rotate_left
  · intro W hW; go_simp; try with_reducible rfl
  try simp only [Act.put, List.getElem_toArray, List.getElem_cons_succ, List.getElem_cons_zero, List.setIfInBounds_toArray, List.set_cons_zero, List.set_cons_succ]
  refine reg_take (v := ?_) hR 30 rfl (by kernel_rfl) (by kernel_rfl) (by kernel_rfl) (fun _ _ _ h => h) (by rfl) ?_ ?_
  rotate_left
  · intro W hW; have hh := (hW.block w.heap.size (by have := B11.out.size; simp at this; omega) (fun e => by have := HG.out; simp at this; omega)).trans (Z.out w11 B11); rw [exec_load_row (P := Try.prog) (w := W) (ty := 33) (x := .tmp 10) (g := w.heap.size) (t := 33) (cs := (cs8 D).toArray) (fr := (0, 0)) (hg := hh) (hu := Try.underlying33) (hi := by rw [HS.out]; exact info33)] <;> rfl
  try simp only [Act.put, List.getElem_toArray, List.getElem_cons_succ, List.getElem_cons_zero, List.setIfInBounds_toArray, List.set_cons_zero, List.set_cons_succ]
  -- STEP 29: Op.call { callee := Callee.value (Operand.func 15), args := #[t80], argTypes := #[22] }
  refine reg_step hR 29 (by kernel_rfl) rfl fun K hK => ?_
  try simp only [Act.put, List.getElem_toArray, List.getElem_cons_succ, List.getElem_cons_zero, List.setIfInBounds_toArray, List.set_cons_zero, List.set_cons_succ]
  go_simp
  refine (RDigest_any hR11 (by omega)).mono ?_; rintro x w12 ⟨rfl, hR12, hO12⟩; rw [p5.out] at hR12 ⊢; simp only at hR12 ⊢; rw [pD.out]
  refine hK.out _ _ ?_ ?_
  · exact Kp.of_only hO12
  have B12 := Lib.hid (bl_only B11.out hO12 HG.out)
  clear hO12
  clear hK K
  try simp only [Act.put, List.getElem_toArray, List.getElem_cons_succ, List.getElem_cons_zero, List.setIfInBounds_toArray, List.set_cons_zero, List.set_cons_succ]
  refine reg_take (v := ?_) hR 31 rfl (by kernel_rfl) (by kernel_rfl) (by kernel_rfl) (fun _ _ _ h => h) (by rfl) ?_ ?_
  rotate_left
  · intro W hW; go_simp; try with_reducible rfl
  try simp only [Act.put, List.getElem_toArray, List.getElem_cons_succ, List.getElem_cons_zero, List.setIfInBounds_toArray, List.set_cons_zero, List.set_cons_succ]
  refine reg_take (v := ?_) hR 32 rfl (by kernel_rfl) (by kernel_rfl) (by kernel_rfl) (fun _ _ _ h => h) (by rfl) ?_ ?_
  rotate_left
  · intro W hW; go_simp; try with_reducible rfl
  try simp only [Act.put, List.getElem_toArray, List.getElem_cons_succ, List.getElem_cons_zero, List.setIfInBounds_toArray, List.set_cons_zero, List.set_cons_succ]
  refine reg_take (v := ?_) hR 33 rfl (by kernel_rfl) (by kernel_rfl) (by kernel_rfl) (fun _ _ _ h => h) (by rfl) ?_ ?_
  rotate_left
  · intro W hW; go_simp; try with_reducible rfl
  try simp only [Act.put, List.getElem_toArray, List.getElem_cons_succ, List.getElem_cons_zero, List.setIfInBounds_toArray, List.set_cons_zero, List.set_cons_succ]
  refine reg_take (v := ?_) hR 34 rfl (by kernel_rfl) (by kernel_rfl) (by kernel_rfl) (fun _ _ _ h => h) (by rfl) ?_ ?_
  rotate_left
  · intro W hW; go_simp; try with_reducible rfl
  try simp only [Act.put, List.getElem_toArray, List.getElem_cons_succ, List.getElem_cons_zero, List.setIfInBounds_toArray, List.set_cons_zero, List.set_cons_succ]
  -- STEP 35: Op.call { callee := Callee.value (Operand.func 14), args := #[t86], argTypes := #[22] }
  refine reg_step hR 35 (by kernel_rfl) rfl fun K hK => ?_
  try simp only [Act.put, List.getElem_toArray, List.getElem_cons_succ, List.getElem_cons_zero, List.setIfInBounds_toArray, List.set_cons_zero, List.set_cons_succ]
  go_simp
  refine (REnd_any hR12).mono ?_; rintro x w13 ⟨rfl, rfl⟩; rw [show rdEnd [] 0 = 0 from rfl]
  refine hK.out _ _ ?_ ?_
  · exact hR.refl _
  clear hK K
  try simp only [Act.put, List.getElem_toArray, List.getElem_cons_succ, List.getElem_cons_zero, List.setIfInBounds_toArray, List.set_cons_zero, List.set_cons_succ]
  refine reg_take (v := ?_) hR 36 rfl (by kernel_rfl) (by kernel_rfl) (by kernel_rfl) (fun _ _ _ h => h) (by rfl) ?_ ?_
  rotate_left
  · intro W hW; go_simp; try with_reducible rfl
  try simp only [Act.put, List.getElem_toArray, List.getElem_cons_succ, List.getElem_cons_zero, List.setIfInBounds_toArray, List.set_cons_zero, List.set_cons_succ]
  refine reg_take (v := ?_) hR 37 rfl (by kernel_rfl) (by kernel_rfl) (by kernel_rfl) (fun _ _ _ h => h) (by rfl) ?_ ?_
  rotate_left
  · intro W hW; go_simp; try with_reducible rfl
  try simp only [Act.put, List.getElem_toArray, List.getElem_cons_succ, List.getElem_cons_zero, List.setIfInBounds_toArray, List.set_cons_zero, List.set_cons_succ]
  refine reg_done (by kernel_rfl) ?_ _

  clear hR hs1 hs9 p1 p2 p3 p4 p5 harr hmask HS HG HG2 B6 B7 B7d B8 B9 B10 B11 hR7 hR8 hR9 hR10 hR11 hR12 HY1 HY2 HY3 pD hr9 ho9
  have e0' := e0.out
  go_wp2_with fail
  refine (Own_any _ (hr0.later (ofAlloc B12)) (by omega)).mono ?_; rintro x w14 ⟨v14, rfl, ho14, hb14⟩
  obtain ⟨A14, c14, rfl, hr14⟩ := ho14.rdN e0.out
  have C14 := Lib.hid (bl_call (ofAlloc B12).out hb14)
  clear hb14 B12 Z e0'
  go_wp2_with fail
  refine (Read_any _ hr14 (by omega)).mono ?_; rintro x w15 ⟨g2, rfl, hg2, hR15, hb15⟩
  have C15 := Lib.hid (bl_call C14.out hb15)
  have HG2 := Lib.hid (Nat.le_trans C14.out.size hg2)
  clear hb15 hg2
  go_wp2_with fail
  refine (RNumber_any hR15 (by have := e0.out; omega)).mono ?_; rintro x w16 ⟨rfl, hR16, hO16⟩
  have C16 := Lib.hid (bl_only C15.out hO16 HG2.out)
  have hbk := rdNum_back l0
  have hln := rdNum_len l0 0
  have hlt := rdNum_lt l0 0
  have hee : (rdNum l0 0).2.2 ≠ 1 := rdNum_ne l0
  generalize rdNum l0 0 = q at *
  obtain ⟨u, rest, e⟩ := q
  simp only at hbk hln hlt hee hR16 ⊢
  have HBK := Lib.hid hbk
  have C16d := Lib.hid C16.out.drew
  clear hbk hO16 C14 C15 hr14 ho14 hR15
  go_wp2_with fail
  have hR := Old.stays
  by_cases he : e = 0
  · subst he
    have hl0 := HBK.out rfl
    obtain ⟨kk, hkk⟩ : ∃ kk, kk = (numB u).length := ⟨_, rfl⟩
    have hlen := congrArg List.length hl0
    rw [List.length_append, ← hkk, e0.out] at hlen
    have hsub : (n0 : Int) - (rest.length : Int) = (kk : Int) := by omega
    have hcap := hr0.cap
    have hkc : (kk : Int) ≤ (c0 : Int) := by omega
    have hwr : IntKind.i64.wrap (kk : Int) = (kk : Int) := by rw [IntKind.wrap_i64]; omega
    have htake : l0.take kk = numB u := by rw [hl0, hkk, List.take_left]
    have HT := Lib.hid htake
    have HKK := Lib.hid hkk
    clear htake hkk hl0 hlen hcap
    refine reg_start Old follows_mixed ?_
-- region 13 of f7: 17 operations, draws: true
    refine reg_take (v := ?_) hR 0 rfl (by kernel_rfl) (by kernel_rfl) (by kernel_rfl) (fun _ _ _ h => h) (by rfl) ?_ ?_
    rotate_left
    · intro W hW; go_simp; try with_reducible rfl
    try simp only [Act.put, List.getElem_toArray, List.getElem_cons_succ, List.getElem_cons_zero, List.setIfInBounds_toArray, List.set_cons_zero, List.set_cons_succ]
    -- STEP 1: Op.call { callee := Callee.value (Operand.func 17), args := #[t95], argTypes := #[22] }
    refine reg_step hR 1 (by kernel_rfl) rfl fun K hK => ?_
    try simp only [Act.put, List.getElem_toArray, List.getElem_cons_succ, List.getElem_cons_zero, List.setIfInBounds_toArray, List.set_cons_zero, List.set_cons_succ]
    go_simp
    refine (Err_any (w := w16.drew) hR16).mono ?_; rintro x w17 ⟨rfl, rfl⟩
    refine hK.out _ _ ?_ ?_
    · exact hR.refl _
    clear hK K
    try simp only [Act.put, List.getElem_toArray, List.getElem_cons_succ, List.getElem_cons_zero, List.setIfInBounds_toArray, List.set_cons_zero, List.set_cons_succ]
    refine reg_take (v := ?_) hR 2 rfl (by kernel_rfl) (by kernel_rfl) (by kernel_rfl) (fun _ _ _ h => h) (by rfl) ?_ ?_
    rotate_left
    · intro W hW; go_simp; try with_reducible rfl
    try simp only [Act.put, List.getElem_toArray, List.getElem_cons_succ, List.getElem_cons_zero, List.setIfInBounds_toArray, List.set_cons_zero, List.set_cons_succ]
    refine reg_take (v := ?_) hR 3 rfl (by kernel_rfl) (by kernel_rfl) (by kernel_rfl) (fun _ _ _ h => h) (by rfl) ?_ ?_
    rotate_left
    · intro W hW; go_simp; try with_reducible rfl
    try simp only [Act.put, List.getElem_toArray, List.getElem_cons_succ, List.getElem_cons_zero, List.setIfInBounds_toArray, List.set_cons_zero, List.set_cons_succ]
    refine reg_take (v := ?_) hR 4 rfl (by kernel_rfl) (by kernel_rfl) (by kernel_rfl) (fun _ _ _ h => h) (by rfl) ?_ ?_
    rotate_left
    · intro W hW; go_simp; try with_reducible rfl
    try simp only [Act.put, List.getElem_toArray, List.getElem_cons_succ, List.getElem_cons_zero, List.setIfInBounds_toArray, List.set_cons_zero, List.set_cons_succ]
    refine reg_take (v := ?_) hR 7 rfl (by kernel_rfl) (by kernel_rfl) (by kernel_rfl) (fun _ _ _ h => h) (by rfl) ?_ ?_
    rotate_left
    · intro W hW; go_simp; try with_reducible rfl
    try simp only [Act.put, List.getElem_toArray, List.getElem_cons_succ, List.getElem_cons_zero, List.setIfInBounds_toArray, List.set_cons_zero, List.set_cons_succ]
    refine reg_take (v := ?_) hR 8 rfl (by kernel_rfl) (by kernel_rfl) (by kernel_rfl) (fun _ _ _ h => h) (by rfl) ?_ ?_
    rotate_left
    · intro W hW; go_simp; try with_reducible rfl
    try simp only [Act.put, List.getElem_toArray, List.getElem_cons_succ, List.getElem_cons_zero, List.setIfInBounds_toArray, List.set_cons_zero, List.set_cons_succ]
    refine reg_take (v := ?_) hR 9 rfl (by kernel_rfl) (by kernel_rfl) (by kernel_rfl) (fun _ _ _ h => h) (by rfl) ?_ ?_
    rotate_left
    · intro W hW; go_simp; try with_reducible rfl
    try simp only [Act.put, List.getElem_toArray, List.getElem_cons_succ, List.getElem_cons_zero, List.setIfInBounds_toArray, List.set_cons_zero, List.set_cons_succ]
    refine reg_take (v := ?_) hR 10 rfl (by kernel_rfl) (by kernel_rfl) (by kernel_rfl) (fun _ _ _ h => h) (by rfl) ?_ ?_
    rotate_left
    · intro W hW; go_simp; try with_reducible rfl
    try simp only [Act.put, List.getElem_toArray, List.getElem_cons_succ, List.getElem_cons_zero, List.setIfInBounds_toArray, List.set_cons_zero, List.set_cons_succ]
    -- STEP 5: Op.call { callee := Callee.value (Operand.func 19), args := #[Operand.const (Value.slice none 0 0), t99], argT
    refine reg_step hR 5 (by kernel_rfl) rfl fun K hK => ?_
    try simp only [Act.put, List.getElem_toArray, List.getElem_cons_succ, List.getElem_cons_zero, List.setIfInBounds_toArray, List.set_cons_zero, List.set_cons_succ]
    go_simp
    refine (Number_any _ _ (Rd.nil _ _ _ _) (by decide) (by omega) (by omega)).mono ?_; rintro x w17 ⟨v17, rfl, ho17, hb17⟩; rw [Int.toNat_natCast, List.nil_append] at ho17; obtain ⟨A17, c17, rfl, hr17⟩ := ho17.rdN HKK.out.symm
    refine hK.out _ _ ?_ ?_
    · exact hb17
    have C17 := Lib.hid (bl_call C16d.out hb17)
    have hR17 := Rdr.below (w := w16.drew) hR16 hb17
    have hs17 : ∀ W, Old w17 W → _ := fun W h => run_str (hr17.below h)
    have hs0 : ∀ W, Old w17 W → (convert 24 9 (.slice A0 kk c0)).run Try.prog W = .ok (.string (str (numB u))) W := fun W h => by
      have hh := ((hr0.below C17.out).below (h.mono C17.out.size)).take_ (k := kk) (by omega)
      rw [HT.out] at hh
      exact run_str hh
    clear hb17
    clear hK K
    try simp only [Act.put, List.getElem_toArray, List.getElem_cons_succ, List.getElem_cons_zero, List.setIfInBounds_toArray, List.set_cons_zero, List.set_cons_succ]
    refine reg_take (v := ?_) hR 6 rfl (by kernel_rfl) (by kernel_rfl) (by kernel_rfl) (fun _ _ _ h => h) (by rfl) ?_ ?_
    rotate_left
    · intro W hW; go_simp; try with_reducible rfl
    try simp only [Act.put, List.getElem_toArray, List.getElem_cons_succ, List.getElem_cons_zero, List.setIfInBounds_toArray, List.set_cons_zero, List.set_cons_succ]
    -- STEP 11: Op.call { callee := Callee.value (Operand.func 13), args := #[t105], argTypes := #[22] }
    refine reg_step hR 11 (by kernel_rfl) rfl fun K hK => ?_
    try simp only [Act.put, List.getElem_toArray, List.getElem_cons_succ, List.getElem_cons_zero, List.setIfInBounds_toArray, List.set_cons_zero, List.set_cons_succ]
    go_simp
    refine (RLeft_any hR17 (by decide)).mono ?_; rintro x w18 ⟨rfl, rfl⟩
    refine hK.out _ _ ?_ ?_
    · exact hR.refl _
    clear hK K
    try simp only [Act.put, List.getElem_toArray, List.getElem_cons_succ, List.getElem_cons_zero, List.setIfInBounds_toArray, List.set_cons_zero, List.set_cons_succ]
    refine reg_take (v := ?_) hR 12 rfl (by kernel_rfl) (by kernel_rfl) (by kernel_rfl) (fun _ _ _ h => h) (by rfl) ?_ ?_
    rotate_left
    · intro W hW; go_simp; try with_reducible rfl
    try simp only [Act.put, List.getElem_toArray, List.getElem_cons_succ, List.getElem_cons_zero, List.setIfInBounds_toArray, List.set_cons_zero, List.set_cons_succ]
    refine reg_take (v := ?_) hR 13 rfl (by kernel_rfl) (by kernel_rfl) (by kernel_rfl) (fun _ _ _ h => h) (by rfl) ?_ ?_
    rotate_left
    · intro W hW; go_simp; try with_reducible rfl
    try simp only [Act.put, List.getElem_toArray, List.getElem_cons_succ, List.getElem_cons_zero, List.setIfInBounds_toArray, List.set_cons_zero, List.set_cons_succ]
    refine reg_take (v := ?_) hR 14 rfl (by kernel_rfl) (by kernel_rfl) (by kernel_rfl) (fun _ _ _ h => h) (by rfl) ?_ ?_
    rotate_left
    · intro W hW; go_simp; try with_reducible rfl
    try simp only [Act.put, List.getElem_toArray, List.getElem_cons_succ, List.getElem_cons_zero, List.setIfInBounds_toArray, List.set_cons_zero, List.set_cons_succ]
    refine reg_take (v := ?_) hR 15 rfl (by kernel_rfl) (by kernel_rfl) (by kernel_rfl) (fun _ _ _ h => h) (by rfl) ?_ ?_
    rotate_left
    · intro W hW; go_simp; try with_reducible rfl
    try simp only [Act.put, List.getElem_toArray, List.getElem_cons_succ, List.getElem_cons_zero, List.setIfInBounds_toArray, List.set_cons_zero, List.set_cons_succ]
    refine reg_take (v := ?_) hR 16 rfl (by kernel_rfl) (by kernel_rfl) (by kernel_rfl) (fun _ _ _ h => h) (by rfl) ?_ ?_
    rotate_left
    · intro W hW; go_simp; try with_reducible rfl
    try simp only [Act.put, List.getElem_toArray, List.getElem_cons_succ, List.getElem_cons_zero, List.setIfInBounds_toArray, List.set_cons_zero, List.set_cons_succ]
    refine reg_done (by kernel_rfl) ?_ _

    clear hsub hkc hwr hs17 hs0 hr17 ho17
    have CT := C17
    clear C17 C16d C16 HT HKK hR17
    go_wp2_with fail

    refine (Own_any _ (hr0.later CT) (by omega)).mono ?_; rintro x w20 ⟨v20, rfl, ho20, hb20⟩
    obtain ⟨A20, c20, rfl, hr20⟩ := ho20.rdN e0.out
    have C20 := Lib.hid (bl_call CT.out hb20)
    clear hb20 CT hR16 HBK hR
    go_wp2_with fail
    refine (Read_any _ hr20 (by omega)).mono ?_; rintro x w21 ⟨g3, rfl, hg3, hR21, hb21⟩
    have C21 := Lib.hid (bl_call C20.out hb21)
    have HG3 := Lib.hid (Nat.le_trans C20.out.size hg3)
    clear hb21 hg3
    go_wp2_with fail
    refine (RBlock_any hR21 (by have := e0.out; omega)).mono ?_; rintro x w22 ⟨v22, rfl, ho22, hR22, hO22⟩
    have C22 := Lib.hid (bl_only C21.out hO22 HG3.out)
    have C22d := Lib.hid C22.out.drew
    have hbk := rdBlk_back l0
    have hln := rdBlk_len l0
    generalize rdBlk l0 0 = q at *
    obtain ⟨p, rest2, e2⟩ := q
    simp only at hbk hln hR22 ho22
    obtain ⟨A22, c22, rfl, hr22⟩ := ho22.rdN (n := p.length) rfl
    have HBK := Lib.hid hbk
    have hpl : p.length ≤ 3000 := by have := e0.out; omega
    clear hbk hO22 C20 C21 hr20 ho20 hR21
    go_wp2_with fail
    have hR := Old.stays
    by_cases he : e2 = 0
    · subst he
      have hl0 := HBK.out rfl
      obtain ⟨kk, hkk⟩ : ∃ kk, kk = (numB p.length ++ p).length := ⟨_, rfl⟩
      rw [← List.append_assoc] at hl0
      have hlen := congrArg List.length hl0
      rw [List.length_append, ← hkk, e0.out] at hlen
      have hsub : (n0 : Int) - (rest2.length : Int) = (kk : Int) := by omega
      have hcap := hr0.cap
      have hkc : (kk : Int) ≤ (c0 : Int) := by omega
      have hwr : IntKind.i64.wrap (kk : Int) = (kk : Int) := by rw [IntKind.wrap_i64]; omega
      have htake : l0.take kk = numB p.length ++ p := by rw [hl0, hkk, List.take_left]
      have HT := Lib.hid htake
      have HKK := Lib.hid hkk
      clear htake hkk hl0 hlen hcap
      refine reg_start Old follows_mixed ?_
    -- region 17 of f7: 18 operations, draws: true
      refine reg_take (v := ?_) hR 0 rfl (by kernel_rfl) (by kernel_rfl) (by kernel_rfl) (fun _ _ _ h => h) (by rfl) ?_ ?_
      rotate_left
      · intro W hW; go_simp; try with_reducible rfl
      try simp only [Act.put, List.getElem_toArray, List.getElem_cons_succ, List.getElem_cons_zero, List.setIfInBounds_toArray, List.set_cons_zero, List.set_cons_succ]
      -- STEP 1: Op.call { callee := Callee.value (Operand.func 17), args := #[t117], argTypes := #[22] }
      refine reg_step hR 1 (by kernel_rfl) rfl fun K hK => ?_
      try simp only [Act.put, List.getElem_toArray, List.getElem_cons_succ, List.getElem_cons_zero, List.setIfInBounds_toArray, List.set_cons_zero, List.set_cons_succ]
      go_simp
      refine (Err_any (w := w22.drew) hR22).mono ?_; rintro x w23 ⟨rfl, rfl⟩
      refine hK.out _ _ ?_ ?_
      · exact hR.refl _
      clear hK K
      try simp only [Act.put, List.getElem_toArray, List.getElem_cons_succ, List.getElem_cons_zero, List.setIfInBounds_toArray, List.set_cons_zero, List.set_cons_succ]
      refine reg_take (v := ?_) hR 2 rfl (by kernel_rfl) (by kernel_rfl) (by kernel_rfl) (fun _ _ _ h => h) (by rfl) ?_ ?_
      rotate_left
      · intro W hW; go_simp; try with_reducible rfl
      try simp only [Act.put, List.getElem_toArray, List.getElem_cons_succ, List.getElem_cons_zero, List.setIfInBounds_toArray, List.set_cons_zero, List.set_cons_succ]
      refine reg_take (v := ?_) hR 3 rfl (by kernel_rfl) (by kernel_rfl) (by kernel_rfl) (fun _ _ _ h => h) (by rfl) ?_ ?_
      rotate_left
      · intro W hW; go_simp; try with_reducible rfl
      try simp only [Act.put, List.getElem_toArray, List.getElem_cons_succ, List.getElem_cons_zero, List.setIfInBounds_toArray, List.set_cons_zero, List.set_cons_succ]
      refine reg_take (v := ?_) hR 4 rfl (by kernel_rfl) (by kernel_rfl) (by kernel_rfl) (fun _ _ _ h => h) (by rfl) ?_ ?_
      rotate_left
      · intro W hW; go_simp; try with_reducible rfl
      try simp only [Act.put, List.getElem_toArray, List.getElem_cons_succ, List.getElem_cons_zero, List.setIfInBounds_toArray, List.set_cons_zero, List.set_cons_succ]
      refine reg_take (v := ?_) hR 7 rfl (by kernel_rfl) (by kernel_rfl) (by kernel_rfl) (fun _ _ _ h => h) (by rfl) ?_ ?_
      rotate_left
      · intro W hW; go_simp; try with_reducible rfl
      try simp only [Act.put, List.getElem_toArray, List.getElem_cons_succ, List.getElem_cons_zero, List.setIfInBounds_toArray, List.set_cons_zero, List.set_cons_succ]
      refine reg_take (v := ?_) hR 8 rfl (by kernel_rfl) (by kernel_rfl) (by kernel_rfl) (fun _ _ _ h => h) (by rfl) ?_ ?_
      rotate_left
      · intro W hW; go_simp; try with_reducible rfl
      try simp only [Act.put, List.getElem_toArray, List.getElem_cons_succ, List.getElem_cons_zero, List.setIfInBounds_toArray, List.set_cons_zero, List.set_cons_succ]
      refine reg_take (v := ?_) hR 9 rfl (by kernel_rfl) (by kernel_rfl) (by kernel_rfl) (fun _ _ _ h => h) (by rfl) ?_ ?_
      rotate_left
      · intro W hW; go_simp; try with_reducible rfl
      try simp only [Act.put, List.getElem_toArray, List.getElem_cons_succ, List.getElem_cons_zero, List.setIfInBounds_toArray, List.set_cons_zero, List.set_cons_succ]
      refine reg_take (v := ?_) hR 10 rfl (by kernel_rfl) (by kernel_rfl) (by kernel_rfl) (fun _ _ _ h => h) (by rfl) ?_ ?_
      rotate_left
      · intro W hW; go_simp; try with_reducible rfl
      try simp only [Act.put, List.getElem_toArray, List.getElem_cons_succ, List.getElem_cons_zero, List.setIfInBounds_toArray, List.set_cons_zero, List.set_cons_succ]
      -- STEP 5: Op.call { callee := Callee.value (Operand.func 22), args := #[Operand.const (Value.slice none 0 0), t121], arg
      refine reg_step hR 5 (by kernel_rfl) rfl fun K hK => ?_
      try simp only [Act.put, List.getElem_toArray, List.getElem_cons_succ, List.getElem_cons_zero, List.setIfInBounds_toArray, List.set_cons_zero, List.set_cons_succ]
      go_simp
      refine (Block_any _ (Rd.nil _ _ _ _) (by decide) (hr22.drew') (by omega)).mono ?_; rintro x w23 ⟨v23, rfl, ho23, hb23⟩; rw [List.nil_append] at ho23; obtain ⟨A23, c23, rfl, hr23⟩ := ho23.rdN HKK.out.symm
      refine hK.out _ _ ?_ ?_
      · exact hb23
      have C23 := Lib.hid (bl_call C22d.out hb23)
      have hR23 := Rdr.below (w := w22.drew) hR22 hb23
      have hs23 : ∀ W, Old w23 W → _ := fun W h => run_str (hr23.below h)
      have hs0 : ∀ W, Old w23 W → (convert 24 9 (.slice A0 kk c0)).run Try.prog W = .ok (.string (str (numB p.length ++ p))) W := fun W h => by
        have hh := ((hr0.below C23.out).below (h.mono C23.out.size)).take_ (k := kk) (by omega)
        rw [HT.out] at hh
        exact run_str hh
      clear hb23
      clear hK K
      try simp only [Act.put, List.getElem_toArray, List.getElem_cons_succ, List.getElem_cons_zero, List.setIfInBounds_toArray, List.set_cons_zero, List.set_cons_succ]
      refine reg_take (v := ?_) hR 6 rfl (by kernel_rfl) (by kernel_rfl) (by kernel_rfl) (fun _ _ _ h => h) (by rfl) ?_ ?_
      rotate_left
      · intro W hW; go_simp; try with_reducible rfl
      try simp only [Act.put, List.getElem_toArray, List.getElem_cons_succ, List.getElem_cons_zero, List.setIfInBounds_toArray, List.set_cons_zero, List.set_cons_succ]
      -- STEP 11: Op.call { callee := Callee.value (Operand.func 13), args := #[t127], argTypes := #[22] }
      refine reg_step hR 11 (by kernel_rfl) rfl fun K hK => ?_
      try simp only [Act.put, List.getElem_toArray, List.getElem_cons_succ, List.getElem_cons_zero, List.setIfInBounds_toArray, List.set_cons_zero, List.set_cons_succ]
      go_simp
      refine (RLeft_any hR23 (by decide)).mono ?_; rintro x w24 ⟨rfl, rfl⟩
      refine hK.out _ _ ?_ ?_
      · exact hR.refl _
      clear hK K
      try simp only [Act.put, List.getElem_toArray, List.getElem_cons_succ, List.getElem_cons_zero, List.setIfInBounds_toArray, List.set_cons_zero, List.set_cons_succ]
      refine reg_take (v := ?_) hR 12 rfl (by kernel_rfl) (by kernel_rfl) (by kernel_rfl) (fun _ _ _ h => h) (by rfl) ?_ ?_
      rotate_left
      · intro W hW; go_simp; try with_reducible rfl
      try simp only [Act.put, List.getElem_toArray, List.getElem_cons_succ, List.getElem_cons_zero, List.setIfInBounds_toArray, List.set_cons_zero, List.set_cons_succ]
      refine reg_take (v := ?_) hR 13 rfl (by kernel_rfl) (by kernel_rfl) (by kernel_rfl) (fun _ _ _ h => h) (by rfl) ?_ ?_
      rotate_left
      · intro W hW; go_simp; try with_reducible rfl
      try simp only [Act.put, List.getElem_toArray, List.getElem_cons_succ, List.getElem_cons_zero, List.setIfInBounds_toArray, List.set_cons_zero, List.set_cons_succ]
      refine reg_take (v := ?_) hR 14 rfl (by kernel_rfl) (by kernel_rfl) (by kernel_rfl) (fun _ _ _ h => h) (by rfl) ?_ ?_
      rotate_left
      · intro W hW; go_simp; try with_reducible rfl
      try simp only [Act.put, List.getElem_toArray, List.getElem_cons_succ, List.getElem_cons_zero, List.setIfInBounds_toArray, List.set_cons_zero, List.set_cons_succ]
      refine reg_take (v := ?_) hR 15 rfl (by kernel_rfl) (by kernel_rfl) (by kernel_rfl) (fun _ _ _ h => h) (by rfl) ?_ ?_
      rotate_left
      · intro W hW; go_simp; try with_reducible rfl
      try simp only [Act.put, List.getElem_toArray, List.getElem_cons_succ, List.getElem_cons_zero, List.setIfInBounds_toArray, List.set_cons_zero, List.set_cons_succ]
      refine reg_take (v := ?_) hR 16 rfl (by kernel_rfl) (by kernel_rfl) (by kernel_rfl) (fun _ _ _ h => h) (by rfl) ?_ ?_
      rotate_left
      · intro W hW; go_simp; try with_reducible rfl
      try simp only [Act.put, List.getElem_toArray, List.getElem_cons_succ, List.getElem_cons_zero, List.setIfInBounds_toArray, List.set_cons_zero, List.set_cons_succ]
      refine reg_take (v := ?_) hR 17 rfl (by kernel_rfl) (by kernel_rfl) (by kernel_rfl) (fun _ _ _ h => h) (by rfl) ?_ ?_
      rotate_left
      · intro W hW; go_simp; try with_reducible rfl
      try simp only [Act.put, List.getElem_toArray, List.getElem_cons_succ, List.getElem_cons_zero, List.setIfInBounds_toArray, List.set_cons_zero, List.set_cons_succ]
      refine reg_done (by kernel_rfl) ?_ _
    
      go_wp2
      go_ret
      exact ⟨rfl, C23.out⟩
    · have hd : (e2 == 0) = false := by simpa using he
      have hd2 : (e2 != 0) = true := by simpa using he
      refine reg_start Old follows_mixed ?_
    -- region 17 of f7: 18 operations, draws: true
      refine reg_take (v := ?_) hR 0 rfl (by kernel_rfl) (by kernel_rfl) (by kernel_rfl) (fun _ _ _ h => h) (by rfl) ?_ ?_
      rotate_left
      · intro W hW; go_simp; try with_reducible rfl
      try simp only [Act.put, List.getElem_toArray, List.getElem_cons_succ, List.getElem_cons_zero, List.setIfInBounds_toArray, List.set_cons_zero, List.set_cons_succ]
      -- STEP 1: Op.call { callee := Callee.value (Operand.func 17), args := #[t117], argTypes := #[22] }
      refine reg_step hR 1 (by kernel_rfl) rfl fun K hK => ?_
      try simp only [Act.put, List.getElem_toArray, List.getElem_cons_succ, List.getElem_cons_zero, List.setIfInBounds_toArray, List.set_cons_zero, List.set_cons_succ]
      go_simp
      refine (Err_any (w := w22.drew) hR22).mono ?_; rintro x w23 ⟨rfl, rfl⟩
      refine hK.out _ _ ?_ ?_
      · exact hR.refl _
      clear hK K
      try simp only [Act.put, List.getElem_toArray, List.getElem_cons_succ, List.getElem_cons_zero, List.setIfInBounds_toArray, List.set_cons_zero, List.set_cons_succ]
      refine reg_take (v := ?_) hR 2 rfl (by kernel_rfl) (by kernel_rfl) (by kernel_rfl) (fun _ _ _ h => h) (by rfl) ?_ ?_
      rotate_left
      · intro W hW; go_simp; try with_reducible rfl
      try simp only [Act.put, List.getElem_toArray, List.getElem_cons_succ, List.getElem_cons_zero, List.setIfInBounds_toArray, List.set_cons_zero, List.set_cons_succ]
      refine reg_take (v := ?_) hR 3 rfl (by kernel_rfl) (by kernel_rfl) (by kernel_rfl) (fun _ _ _ h => h) (by rfl) ?_ ?_
      rotate_left
      · intro W hW; go_simp; try with_reducible rfl
      try simp only [Act.put, List.getElem_toArray, List.getElem_cons_succ, List.getElem_cons_zero, List.setIfInBounds_toArray, List.set_cons_zero, List.set_cons_succ]
      refine reg_skip hR 4 rfl (by kernel_rfl) (by kernel_rfl) (by kernel_rfl) (fun _ _ _ h => h) (by rfl) ?_
      try simp only [Act.put, List.getElem_toArray, List.getElem_cons_succ, List.getElem_cons_zero, List.setIfInBounds_toArray, List.set_cons_zero, List.set_cons_succ]
      refine reg_skip hR 5 rfl (by kernel_rfl) (by kernel_rfl) (by kernel_rfl) (fun _ _ _ h => h) (by rfl) ?_
      try simp only [Act.put, List.getElem_toArray, List.getElem_cons_succ, List.getElem_cons_zero, List.setIfInBounds_toArray, List.set_cons_zero, List.set_cons_succ]
      refine reg_skip hR 6 rfl (by kernel_rfl) (by kernel_rfl) (by kernel_rfl) (fun _ _ _ h => h) (by rfl) ?_
      try simp only [Act.put, List.getElem_toArray, List.getElem_cons_succ, List.getElem_cons_zero, List.setIfInBounds_toArray, List.set_cons_zero, List.set_cons_succ]
      refine reg_skip hR 7 rfl (by kernel_rfl) (by kernel_rfl) (by kernel_rfl) (fun _ _ _ h => h) (by rfl) ?_
      try simp only [Act.put, List.getElem_toArray, List.getElem_cons_succ, List.getElem_cons_zero, List.setIfInBounds_toArray, List.set_cons_zero, List.set_cons_succ]
      refine reg_skip hR 8 rfl (by kernel_rfl) (by kernel_rfl) (by kernel_rfl) (fun _ _ _ h => h) (by rfl) ?_
      try simp only [Act.put, List.getElem_toArray, List.getElem_cons_succ, List.getElem_cons_zero, List.setIfInBounds_toArray, List.set_cons_zero, List.set_cons_succ]
      refine reg_skip hR 9 rfl (by kernel_rfl) (by kernel_rfl) (by kernel_rfl) (fun _ _ _ h => h) (by rfl) ?_
      try simp only [Act.put, List.getElem_toArray, List.getElem_cons_succ, List.getElem_cons_zero, List.setIfInBounds_toArray, List.set_cons_zero, List.set_cons_succ]
      refine reg_skip hR 10 rfl (by kernel_rfl) (by kernel_rfl) (by kernel_rfl) (fun _ _ _ h => h) (by rfl) ?_
      try simp only [Act.put, List.getElem_toArray, List.getElem_cons_succ, List.getElem_cons_zero, List.setIfInBounds_toArray, List.set_cons_zero, List.set_cons_succ]
      refine reg_skip hR 11 rfl (by kernel_rfl) (by kernel_rfl) (by kernel_rfl) (fun _ _ _ h => h) (by rfl) ?_
      try simp only [Act.put, List.getElem_toArray, List.getElem_cons_succ, List.getElem_cons_zero, List.setIfInBounds_toArray, List.set_cons_zero, List.set_cons_succ]
      refine reg_skip hR 12 rfl (by kernel_rfl) (by kernel_rfl) (by kernel_rfl) (fun _ _ _ h => h) (by rfl) ?_
      try simp only [Act.put, List.getElem_toArray, List.getElem_cons_succ, List.getElem_cons_zero, List.setIfInBounds_toArray, List.set_cons_zero, List.set_cons_succ]
      refine reg_skip hR 13 rfl (by kernel_rfl) (by kernel_rfl) (by kernel_rfl) (fun _ _ _ h => h) (by rfl) ?_
      try simp only [Act.put, List.getElem_toArray, List.getElem_cons_succ, List.getElem_cons_zero, List.setIfInBounds_toArray, List.set_cons_zero, List.set_cons_succ]
      refine reg_skip hR 14 rfl (by kernel_rfl) (by kernel_rfl) (by kernel_rfl) (fun _ _ _ h => h) (by rfl) ?_
      try simp only [Act.put, List.getElem_toArray, List.getElem_cons_succ, List.getElem_cons_zero, List.setIfInBounds_toArray, List.set_cons_zero, List.set_cons_succ]
      refine reg_skip hR 15 rfl (by kernel_rfl) (by kernel_rfl) (by kernel_rfl) (fun _ _ _ h => h) (by rfl) ?_
      try simp only [Act.put, List.getElem_toArray, List.getElem_cons_succ, List.getElem_cons_zero, List.setIfInBounds_toArray, List.set_cons_zero, List.set_cons_succ]
      refine reg_take (v := ?_) hR 16 rfl (by kernel_rfl) (by kernel_rfl) (by kernel_rfl) (fun _ _ _ h => h) (by rfl) ?_ ?_
      rotate_left
      · intro W hW; go_simp; try with_reducible rfl
      try simp only [Act.put, List.getElem_toArray, List.getElem_cons_succ, List.getElem_cons_zero, List.setIfInBounds_toArray, List.set_cons_zero, List.set_cons_succ]
      refine reg_take (v := ?_) hR 17 rfl (by kernel_rfl) (by kernel_rfl) (by kernel_rfl) (fun _ _ _ h => h) (by rfl) ?_ ?_
      rotate_left
      · intro W hW; go_simp; try with_reducible rfl
      try simp only [Act.put, List.getElem_toArray, List.getElem_cons_succ, List.getElem_cons_zero, List.setIfInBounds_toArray, List.set_cons_zero, List.set_cons_succ]
      refine reg_done (by kernel_rfl) ?_ _
    
      go_wp2
      go_ret
      exact ⟨rfl, C22d.out⟩

  · have hd : (e == 0) = false := by simpa using he
    refine reg_start Old follows_mixed ?_
-- region 13 of f7: 17 operations, draws: true
    refine reg_take (v := ?_) hR 0 rfl (by kernel_rfl) (by kernel_rfl) (by kernel_rfl) (fun _ _ _ h => h) (by rfl) ?_ ?_
    rotate_left
    · intro W hW; go_simp; try with_reducible rfl
    try simp only [Act.put, List.getElem_toArray, List.getElem_cons_succ, List.getElem_cons_zero, List.setIfInBounds_toArray, List.set_cons_zero, List.set_cons_succ]
    -- STEP 1: Op.call { callee := Callee.value (Operand.func 17), args := #[t95], argTypes := #[22] }
    refine reg_step hR 1 (by kernel_rfl) rfl fun K hK => ?_
    try simp only [Act.put, List.getElem_toArray, List.getElem_cons_succ, List.getElem_cons_zero, List.setIfInBounds_toArray, List.set_cons_zero, List.set_cons_succ]
    go_simp
    refine (Err_any (w := w16.drew) hR16).mono ?_; rintro x w17 ⟨rfl, rfl⟩
    refine hK.out _ _ ?_ ?_
    · exact hR.refl _
    clear hK K
    try simp only [Act.put, List.getElem_toArray, List.getElem_cons_succ, List.getElem_cons_zero, List.setIfInBounds_toArray, List.set_cons_zero, List.set_cons_succ]
    refine reg_take (v := ?_) hR 2 rfl (by kernel_rfl) (by kernel_rfl) (by kernel_rfl) (fun _ _ _ h => h) (by rfl) ?_ ?_
    rotate_left
    · intro W hW; go_simp; try with_reducible rfl
    try simp only [Act.put, List.getElem_toArray, List.getElem_cons_succ, List.getElem_cons_zero, List.setIfInBounds_toArray, List.set_cons_zero, List.set_cons_succ]
    refine reg_take (v := ?_) hR 3 rfl (by kernel_rfl) (by kernel_rfl) (by kernel_rfl) (fun _ _ _ h => h) (by rfl) ?_ ?_
    rotate_left
    · intro W hW; go_simp; try with_reducible rfl
    try simp only [Act.put, List.getElem_toArray, List.getElem_cons_succ, List.getElem_cons_zero, List.setIfInBounds_toArray, List.set_cons_zero, List.set_cons_succ]
    refine reg_skip hR 4 rfl (by kernel_rfl) (by kernel_rfl) (by kernel_rfl) (fun _ _ _ h => h) (by rfl) ?_
    try simp only [Act.put, List.getElem_toArray, List.getElem_cons_succ, List.getElem_cons_zero, List.setIfInBounds_toArray, List.set_cons_zero, List.set_cons_succ]
    refine reg_skip hR 5 rfl (by kernel_rfl) (by kernel_rfl) (by kernel_rfl) (fun _ _ _ h => h) (by rfl) ?_
    try simp only [Act.put, List.getElem_toArray, List.getElem_cons_succ, List.getElem_cons_zero, List.setIfInBounds_toArray, List.set_cons_zero, List.set_cons_succ]
    refine reg_skip hR 6 rfl (by kernel_rfl) (by kernel_rfl) (by kernel_rfl) (fun _ _ _ h => h) (by rfl) ?_
    try simp only [Act.put, List.getElem_toArray, List.getElem_cons_succ, List.getElem_cons_zero, List.setIfInBounds_toArray, List.set_cons_zero, List.set_cons_succ]
    refine reg_skip hR 7 rfl (by kernel_rfl) (by kernel_rfl) (by kernel_rfl) (fun _ _ _ h => h) (by rfl) ?_
    try simp only [Act.put, List.getElem_toArray, List.getElem_cons_succ, List.getElem_cons_zero, List.setIfInBounds_toArray, List.set_cons_zero, List.set_cons_succ]
    refine reg_skip hR 8 rfl (by kernel_rfl) (by kernel_rfl) (by kernel_rfl) (fun _ _ _ h => h) (by rfl) ?_
    try simp only [Act.put, List.getElem_toArray, List.getElem_cons_succ, List.getElem_cons_zero, List.setIfInBounds_toArray, List.set_cons_zero, List.set_cons_succ]
    refine reg_skip hR 9 rfl (by kernel_rfl) (by kernel_rfl) (by kernel_rfl) (fun _ _ _ h => h) (by rfl) ?_
    try simp only [Act.put, List.getElem_toArray, List.getElem_cons_succ, List.getElem_cons_zero, List.setIfInBounds_toArray, List.set_cons_zero, List.set_cons_succ]
    refine reg_skip hR 10 rfl (by kernel_rfl) (by kernel_rfl) (by kernel_rfl) (fun _ _ _ h => h) (by rfl) ?_
    try simp only [Act.put, List.getElem_toArray, List.getElem_cons_succ, List.getElem_cons_zero, List.setIfInBounds_toArray, List.set_cons_zero, List.set_cons_succ]
    refine reg_skip hR 11 rfl (by kernel_rfl) (by kernel_rfl) (by kernel_rfl) (fun _ _ _ h => h) (by rfl) ?_
    try simp only [Act.put, List.getElem_toArray, List.getElem_cons_succ, List.getElem_cons_zero, List.setIfInBounds_toArray, List.set_cons_zero, List.set_cons_succ]
    refine reg_skip hR 12 rfl (by kernel_rfl) (by kernel_rfl) (by kernel_rfl) (fun _ _ _ h => h) (by rfl) ?_
    try simp only [Act.put, List.getElem_toArray, List.getElem_cons_succ, List.getElem_cons_zero, List.setIfInBounds_toArray, List.set_cons_zero, List.set_cons_succ]
    refine reg_skip hR 13 rfl (by kernel_rfl) (by kernel_rfl) (by kernel_rfl) (fun _ _ _ h => h) (by rfl) ?_
    try simp only [Act.put, List.getElem_toArray, List.getElem_cons_succ, List.getElem_cons_zero, List.setIfInBounds_toArray, List.set_cons_zero, List.set_cons_succ]
    refine reg_skip hR 14 rfl (by kernel_rfl) (by kernel_rfl) (by kernel_rfl) (fun _ _ _ h => h) (by rfl) ?_
    try simp only [Act.put, List.getElem_toArray, List.getElem_cons_succ, List.getElem_cons_zero, List.setIfInBounds_toArray, List.set_cons_zero, List.set_cons_succ]
    refine reg_skip hR 15 rfl (by kernel_rfl) (by kernel_rfl) (by kernel_rfl) (fun _ _ _ h => h) (by rfl) ?_
    try simp only [Act.put, List.getElem_toArray, List.getElem_cons_succ, List.getElem_cons_zero, List.setIfInBounds_toArray, List.set_cons_zero, List.set_cons_succ]
    refine reg_take (v := ?_) hR 16 rfl (by kernel_rfl) (by kernel_rfl) (by kernel_rfl) (fun _ _ _ h => h) (by rfl) ?_ ?_
    rotate_left
    · intro W hW; go_simp; try with_reducible rfl
    try simp only [Act.put, List.getElem_toArray, List.getElem_cons_succ, List.getElem_cons_zero, List.setIfInBounds_toArray, List.set_cons_zero, List.set_cons_succ]
    refine reg_done (by kernel_rfl) ?_ _

    have CT := C16d
    clear C16d C16 he hd
    go_wp2_with fail

    refine (Own_any _ (hr0.later CT) (by omega)).mono ?_; rintro x w20 ⟨v20, rfl, ho20, hb20⟩
    obtain ⟨A20, c20, rfl, hr20⟩ := ho20.rdN e0.out
    have C20 := Lib.hid (bl_call CT.out hb20)
    clear hb20 CT hR16 HBK hR
    go_wp2_with fail
    refine (Read_any _ hr20 (by omega)).mono ?_; rintro x w21 ⟨g3, rfl, hg3, hR21, hb21⟩
    have C21 := Lib.hid (bl_call C20.out hb21)
    have HG3 := Lib.hid (Nat.le_trans C20.out.size hg3)
    clear hb21 hg3
    go_wp2_with fail
    refine (RBlock_any hR21 (by have := e0.out; omega)).mono ?_; rintro x w22 ⟨v22, rfl, ho22, hR22, hO22⟩
    have C22 := Lib.hid (bl_only C21.out hO22 HG3.out)
    have C22d := Lib.hid C22.out.drew
    have hbk := rdBlk_back l0
    have hln := rdBlk_len l0
    generalize rdBlk l0 0 = q at *
    obtain ⟨p, rest2, e2⟩ := q
    simp only at hbk hln hR22 ho22
    obtain ⟨A22, c22, rfl, hr22⟩ := ho22.rdN (n := p.length) rfl
    have HBK := Lib.hid hbk
    have hpl : p.length ≤ 3000 := by have := e0.out; omega
    clear hbk hO22 C20 C21 hr20 ho20 hR21
    go_wp2_with fail
    have hR := Old.stays
    by_cases he : e2 = 0
    · subst he
      have hl0 := HBK.out rfl
      obtain ⟨kk, hkk⟩ : ∃ kk, kk = (numB p.length ++ p).length := ⟨_, rfl⟩
      rw [← List.append_assoc] at hl0
      have hlen := congrArg List.length hl0
      rw [List.length_append, ← hkk, e0.out] at hlen
      have hsub : (n0 : Int) - (rest2.length : Int) = (kk : Int) := by omega
      have hcap := hr0.cap
      have hkc : (kk : Int) ≤ (c0 : Int) := by omega
      have hwr : IntKind.i64.wrap (kk : Int) = (kk : Int) := by rw [IntKind.wrap_i64]; omega
      have htake : l0.take kk = numB p.length ++ p := by rw [hl0, hkk, List.take_left]
      have HT := Lib.hid htake
      have HKK := Lib.hid hkk
      clear htake hkk hl0 hlen hcap
      refine reg_start Old follows_mixed ?_
    -- region 17 of f7: 18 operations, draws: true
      refine reg_take (v := ?_) hR 0 rfl (by kernel_rfl) (by kernel_rfl) (by kernel_rfl) (fun _ _ _ h => h) (by rfl) ?_ ?_
      rotate_left
      · intro W hW; go_simp; try with_reducible rfl
      try simp only [Act.put, List.getElem_toArray, List.getElem_cons_succ, List.getElem_cons_zero, List.setIfInBounds_toArray, List.set_cons_zero, List.set_cons_succ]
      -- STEP 1: Op.call { callee := Callee.value (Operand.func 17), args := #[t117], argTypes := #[22] }
      refine reg_step hR 1 (by kernel_rfl) rfl fun K hK => ?_
      try simp only [Act.put, List.getElem_toArray, List.getElem_cons_succ, List.getElem_cons_zero, List.setIfInBounds_toArray, List.set_cons_zero, List.set_cons_succ]
      go_simp
      refine (Err_any (w := w22.drew) hR22).mono ?_; rintro x w23 ⟨rfl, rfl⟩
      refine hK.out _ _ ?_ ?_
      · exact hR.refl _
      clear hK K
      try simp only [Act.put, List.getElem_toArray, List.getElem_cons_succ, List.getElem_cons_zero, List.setIfInBounds_toArray, List.set_cons_zero, List.set_cons_succ]
      refine reg_take (v := ?_) hR 2 rfl (by kernel_rfl) (by kernel_rfl) (by kernel_rfl) (fun _ _ _ h => h) (by rfl) ?_ ?_
      rotate_left
      · intro W hW; go_simp; try with_reducible rfl
      try simp only [Act.put, List.getElem_toArray, List.getElem_cons_succ, List.getElem_cons_zero, List.setIfInBounds_toArray, List.set_cons_zero, List.set_cons_succ]
      refine reg_take (v := ?_) hR 3 rfl (by kernel_rfl) (by kernel_rfl) (by kernel_rfl) (fun _ _ _ h => h) (by rfl) ?_ ?_
      rotate_left
      · intro W hW; go_simp; try with_reducible rfl
      try simp only [Act.put, List.getElem_toArray, List.getElem_cons_succ, List.getElem_cons_zero, List.setIfInBounds_toArray, List.set_cons_zero, List.set_cons_succ]
      refine reg_take (v := ?_) hR 4 rfl (by kernel_rfl) (by kernel_rfl) (by kernel_rfl) (fun _ _ _ h => h) (by rfl) ?_ ?_
      rotate_left
      · intro W hW; go_simp; try with_reducible rfl
      try simp only [Act.put, List.getElem_toArray, List.getElem_cons_succ, List.getElem_cons_zero, List.setIfInBounds_toArray, List.set_cons_zero, List.set_cons_succ]
      refine reg_take (v := ?_) hR 7 rfl (by kernel_rfl) (by kernel_rfl) (by kernel_rfl) (fun _ _ _ h => h) (by rfl) ?_ ?_
      rotate_left
      · intro W hW; go_simp; try with_reducible rfl
      try simp only [Act.put, List.getElem_toArray, List.getElem_cons_succ, List.getElem_cons_zero, List.setIfInBounds_toArray, List.set_cons_zero, List.set_cons_succ]
      refine reg_take (v := ?_) hR 8 rfl (by kernel_rfl) (by kernel_rfl) (by kernel_rfl) (fun _ _ _ h => h) (by rfl) ?_ ?_
      rotate_left
      · intro W hW; go_simp; try with_reducible rfl
      try simp only [Act.put, List.getElem_toArray, List.getElem_cons_succ, List.getElem_cons_zero, List.setIfInBounds_toArray, List.set_cons_zero, List.set_cons_succ]
      refine reg_take (v := ?_) hR 9 rfl (by kernel_rfl) (by kernel_rfl) (by kernel_rfl) (fun _ _ _ h => h) (by rfl) ?_ ?_
      rotate_left
      · intro W hW; go_simp; try with_reducible rfl
      try simp only [Act.put, List.getElem_toArray, List.getElem_cons_succ, List.getElem_cons_zero, List.setIfInBounds_toArray, List.set_cons_zero, List.set_cons_succ]
      refine reg_take (v := ?_) hR 10 rfl (by kernel_rfl) (by kernel_rfl) (by kernel_rfl) (fun _ _ _ h => h) (by rfl) ?_ ?_
      rotate_left
      · intro W hW; go_simp; try with_reducible rfl
      try simp only [Act.put, List.getElem_toArray, List.getElem_cons_succ, List.getElem_cons_zero, List.setIfInBounds_toArray, List.set_cons_zero, List.set_cons_succ]
      -- STEP 5: Op.call { callee := Callee.value (Operand.func 22), args := #[Operand.const (Value.slice none 0 0), t121], arg
      refine reg_step hR 5 (by kernel_rfl) rfl fun K hK => ?_
      try simp only [Act.put, List.getElem_toArray, List.getElem_cons_succ, List.getElem_cons_zero, List.setIfInBounds_toArray, List.set_cons_zero, List.set_cons_succ]
      go_simp
      refine (Block_any _ (Rd.nil _ _ _ _) (by decide) (hr22.drew') (by omega)).mono ?_; rintro x w23 ⟨v23, rfl, ho23, hb23⟩; rw [List.nil_append] at ho23; obtain ⟨A23, c23, rfl, hr23⟩ := ho23.rdN HKK.out.symm
      refine hK.out _ _ ?_ ?_
      · exact hb23
      have C23 := Lib.hid (bl_call C22d.out hb23)
      have hR23 := Rdr.below (w := w22.drew) hR22 hb23
      have hs23 : ∀ W, Old w23 W → _ := fun W h => run_str (hr23.below h)
      have hs0 : ∀ W, Old w23 W → (convert 24 9 (.slice A0 kk c0)).run Try.prog W = .ok (.string (str (numB p.length ++ p))) W := fun W h => by
        have hh := ((hr0.below C23.out).below (h.mono C23.out.size)).take_ (k := kk) (by omega)
        rw [HT.out] at hh
        exact run_str hh
      clear hb23
      clear hK K
      try simp only [Act.put, List.getElem_toArray, List.getElem_cons_succ, List.getElem_cons_zero, List.setIfInBounds_toArray, List.set_cons_zero, List.set_cons_succ]
      refine reg_take (v := ?_) hR 6 rfl (by kernel_rfl) (by kernel_rfl) (by kernel_rfl) (fun _ _ _ h => h) (by rfl) ?_ ?_
      rotate_left
      · intro W hW; go_simp; try with_reducible rfl
      try simp only [Act.put, List.getElem_toArray, List.getElem_cons_succ, List.getElem_cons_zero, List.setIfInBounds_toArray, List.set_cons_zero, List.set_cons_succ]
      -- STEP 11: Op.call { callee := Callee.value (Operand.func 13), args := #[t127], argTypes := #[22] }
      refine reg_step hR 11 (by kernel_rfl) rfl fun K hK => ?_
      try simp only [Act.put, List.getElem_toArray, List.getElem_cons_succ, List.getElem_cons_zero, List.setIfInBounds_toArray, List.set_cons_zero, List.set_cons_succ]
      go_simp
      refine (RLeft_any hR23 (by decide)).mono ?_; rintro x w24 ⟨rfl, rfl⟩
      refine hK.out _ _ ?_ ?_
      · exact hR.refl _
      clear hK K
      try simp only [Act.put, List.getElem_toArray, List.getElem_cons_succ, List.getElem_cons_zero, List.setIfInBounds_toArray, List.set_cons_zero, List.set_cons_succ]
      refine reg_take (v := ?_) hR 12 rfl (by kernel_rfl) (by kernel_rfl) (by kernel_rfl) (fun _ _ _ h => h) (by rfl) ?_ ?_
      rotate_left
      · intro W hW; go_simp; try with_reducible rfl
      try simp only [Act.put, List.getElem_toArray, List.getElem_cons_succ, List.getElem_cons_zero, List.setIfInBounds_toArray, List.set_cons_zero, List.set_cons_succ]
      refine reg_take (v := ?_) hR 13 rfl (by kernel_rfl) (by kernel_rfl) (by kernel_rfl) (fun _ _ _ h => h) (by rfl) ?_ ?_
      rotate_left
      · intro W hW; go_simp; try with_reducible rfl
      try simp only [Act.put, List.getElem_toArray, List.getElem_cons_succ, List.getElem_cons_zero, List.setIfInBounds_toArray, List.set_cons_zero, List.set_cons_succ]
      refine reg_take (v := ?_) hR 14 rfl (by kernel_rfl) (by kernel_rfl) (by kernel_rfl) (fun _ _ _ h => h) (by rfl) ?_ ?_
      rotate_left
      · intro W hW; go_simp; try with_reducible rfl
      try simp only [Act.put, List.getElem_toArray, List.getElem_cons_succ, List.getElem_cons_zero, List.setIfInBounds_toArray, List.set_cons_zero, List.set_cons_succ]
      refine reg_take (v := ?_) hR 15 rfl (by kernel_rfl) (by kernel_rfl) (by kernel_rfl) (fun _ _ _ h => h) (by rfl) ?_ ?_
      rotate_left
      · intro W hW; go_simp; try with_reducible rfl
      try simp only [Act.put, List.getElem_toArray, List.getElem_cons_succ, List.getElem_cons_zero, List.setIfInBounds_toArray, List.set_cons_zero, List.set_cons_succ]
      refine reg_take (v := ?_) hR 16 rfl (by kernel_rfl) (by kernel_rfl) (by kernel_rfl) (fun _ _ _ h => h) (by rfl) ?_ ?_
      rotate_left
      · intro W hW; go_simp; try with_reducible rfl
      try simp only [Act.put, List.getElem_toArray, List.getElem_cons_succ, List.getElem_cons_zero, List.setIfInBounds_toArray, List.set_cons_zero, List.set_cons_succ]
      refine reg_take (v := ?_) hR 17 rfl (by kernel_rfl) (by kernel_rfl) (by kernel_rfl) (fun _ _ _ h => h) (by rfl) ?_ ?_
      rotate_left
      · intro W hW; go_simp; try with_reducible rfl
      try simp only [Act.put, List.getElem_toArray, List.getElem_cons_succ, List.getElem_cons_zero, List.setIfInBounds_toArray, List.set_cons_zero, List.set_cons_succ]
      refine reg_done (by kernel_rfl) ?_ _
    
      go_wp2
      go_ret
      exact ⟨rfl, C23.out⟩
    · have hd : (e2 == 0) = false := by simpa using he
      have hd2 : (e2 != 0) = true := by simpa using he
      refine reg_start Old follows_mixed ?_
    -- region 17 of f7: 18 operations, draws: true
      refine reg_take (v := ?_) hR 0 rfl (by kernel_rfl) (by kernel_rfl) (by kernel_rfl) (fun _ _ _ h => h) (by rfl) ?_ ?_
      rotate_left
      · intro W hW; go_simp; try with_reducible rfl
      try simp only [Act.put, List.getElem_toArray, List.getElem_cons_succ, List.getElem_cons_zero, List.setIfInBounds_toArray, List.set_cons_zero, List.set_cons_succ]
      -- STEP 1: Op.call { callee := Callee.value (Operand.func 17), args := #[t117], argTypes := #[22] }
      refine reg_step hR 1 (by kernel_rfl) rfl fun K hK => ?_
      try simp only [Act.put, List.getElem_toArray, List.getElem_cons_succ, List.getElem_cons_zero, List.setIfInBounds_toArray, List.set_cons_zero, List.set_cons_succ]
      go_simp
      refine (Err_any (w := w22.drew) hR22).mono ?_; rintro x w23 ⟨rfl, rfl⟩
      refine hK.out _ _ ?_ ?_
      · exact hR.refl _
      clear hK K
      try simp only [Act.put, List.getElem_toArray, List.getElem_cons_succ, List.getElem_cons_zero, List.setIfInBounds_toArray, List.set_cons_zero, List.set_cons_succ]
      refine reg_take (v := ?_) hR 2 rfl (by kernel_rfl) (by kernel_rfl) (by kernel_rfl) (fun _ _ _ h => h) (by rfl) ?_ ?_
      rotate_left
      · intro W hW; go_simp; try with_reducible rfl
      try simp only [Act.put, List.getElem_toArray, List.getElem_cons_succ, List.getElem_cons_zero, List.setIfInBounds_toArray, List.set_cons_zero, List.set_cons_succ]
      refine reg_take (v := ?_) hR 3 rfl (by kernel_rfl) (by kernel_rfl) (by kernel_rfl) (fun _ _ _ h => h) (by rfl) ?_ ?_
      rotate_left
      · intro W hW; go_simp; try with_reducible rfl
      try simp only [Act.put, List.getElem_toArray, List.getElem_cons_succ, List.getElem_cons_zero, List.setIfInBounds_toArray, List.set_cons_zero, List.set_cons_succ]
      refine reg_skip hR 4 rfl (by kernel_rfl) (by kernel_rfl) (by kernel_rfl) (fun _ _ _ h => h) (by rfl) ?_
      try simp only [Act.put, List.getElem_toArray, List.getElem_cons_succ, List.getElem_cons_zero, List.setIfInBounds_toArray, List.set_cons_zero, List.set_cons_succ]
      refine reg_skip hR 5 rfl (by kernel_rfl) (by kernel_rfl) (by kernel_rfl) (fun _ _ _ h => h) (by rfl) ?_
      try simp only [Act.put, List.getElem_toArray, List.getElem_cons_succ, List.getElem_cons_zero, List.setIfInBounds_toArray, List.set_cons_zero, List.set_cons_succ]
      refine reg_skip hR 6 rfl (by kernel_rfl) (by kernel_rfl) (by kernel_rfl) (fun _ _ _ h => h) (by rfl) ?_
      try simp only [Act.put, List.getElem_toArray, List.getElem_cons_succ, List.getElem_cons_zero, List.setIfInBounds_toArray, List.set_cons_zero, List.set_cons_succ]
      refine reg_skip hR 7 rfl (by kernel_rfl) (by kernel_rfl) (by kernel_rfl) (fun _ _ _ h => h) (by rfl) ?_
      try simp only [Act.put, List.getElem_toArray, List.getElem_cons_succ, List.getElem_cons_zero, List.setIfInBounds_toArray, List.set_cons_zero, List.set_cons_succ]
      refine reg_skip hR 8 rfl (by kernel_rfl) (by kernel_rfl) (by kernel_rfl) (fun _ _ _ h => h) (by rfl) ?_
      try simp only [Act.put, List.getElem_toArray, List.getElem_cons_succ, List.getElem_cons_zero, List.setIfInBounds_toArray, List.set_cons_zero, List.set_cons_succ]
      refine reg_skip hR 9 rfl (by kernel_rfl) (by kernel_rfl) (by kernel_rfl) (fun _ _ _ h => h) (by rfl) ?_
      try simp only [Act.put, List.getElem_toArray, List.getElem_cons_succ, List.getElem_cons_zero, List.setIfInBounds_toArray, List.set_cons_zero, List.set_cons_succ]
      refine reg_skip hR 10 rfl (by kernel_rfl) (by kernel_rfl) (by kernel_rfl) (fun _ _ _ h => h) (by rfl) ?_
      try simp only [Act.put, List.getElem_toArray, List.getElem_cons_succ, List.getElem_cons_zero, List.setIfInBounds_toArray, List.set_cons_zero, List.set_cons_succ]
      refine reg_skip hR 11 rfl (by kernel_rfl) (by kernel_rfl) (by kernel_rfl) (fun _ _ _ h => h) (by rfl) ?_
      try simp only [Act.put, List.getElem_toArray, List.getElem_cons_succ, List.getElem_cons_zero, List.setIfInBounds_toArray, List.set_cons_zero, List.set_cons_succ]
      refine reg_skip hR 12 rfl (by kernel_rfl) (by kernel_rfl) (by kernel_rfl) (fun _ _ _ h => h) (by rfl) ?_
      try simp only [Act.put, List.getElem_toArray, List.getElem_cons_succ, List.getElem_cons_zero, List.setIfInBounds_toArray, List.set_cons_zero, List.set_cons_succ]
      refine reg_skip hR 13 rfl (by kernel_rfl) (by kernel_rfl) (by kernel_rfl) (fun _ _ _ h => h) (by rfl) ?_
      try simp only [Act.put, List.getElem_toArray, List.getElem_cons_succ, List.getElem_cons_zero, List.setIfInBounds_toArray, List.set_cons_zero, List.set_cons_succ]
      refine reg_skip hR 14 rfl (by kernel_rfl) (by kernel_rfl) (by kernel_rfl) (fun _ _ _ h => h) (by rfl) ?_
      try simp only [Act.put, List.getElem_toArray, List.getElem_cons_succ, List.getElem_cons_zero, List.setIfInBounds_toArray, List.set_cons_zero, List.set_cons_succ]
      refine reg_skip hR 15 rfl (by kernel_rfl) (by kernel_rfl) (by kernel_rfl) (fun _ _ _ h => h) (by rfl) ?_
      try simp only [Act.put, List.getElem_toArray, List.getElem_cons_succ, List.getElem_cons_zero, List.setIfInBounds_toArray, List.set_cons_zero, List.set_cons_succ]
      refine reg_take (v := ?_) hR 16 rfl (by kernel_rfl) (by kernel_rfl) (by kernel_rfl) (fun _ _ _ h => h) (by rfl) ?_ ?_
      rotate_left
      · intro W hW; go_simp; try with_reducible rfl
      try simp only [Act.put, List.getElem_toArray, List.getElem_cons_succ, List.getElem_cons_zero, List.setIfInBounds_toArray, List.set_cons_zero, List.set_cons_succ]
      refine reg_take (v := ?_) hR 17 rfl (by kernel_rfl) (by kernel_rfl) (by kernel_rfl) (fun _ _ _ h => h) (by rfl) ?_ ?_
      rotate_left
      · intro W hW; go_simp; try with_reducible rfl
      try simp only [Act.put, List.getElem_toArray, List.getElem_cons_succ, List.getElem_cons_zero, List.setIfInBounds_toArray, List.set_cons_zero, List.set_cons_succ]
      refine reg_done (by kernel_rfl) ?_ _
    
      go_wp2
      go_ret
      exact ⟨rfl, C22d.out⟩

end Go.Proofs.Ytilcgnghhfiflaa
