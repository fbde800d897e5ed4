/- Words turned and shifted: rotated, shifted. -/
import Derived.Test.YtjaoaikcmbfnmaaMem
import Derived.Test.YtjaoaikcmbfnmaaReg
import Derived.Test.YtjaoaikcmbfnmaaSp
import Derived.Laws.BitsAllLaws
namespace Go.Proofs.Ytjaoaikcmbfnmaa
open Go.RowKit
theorem ret_int {k : IntKind} {a b : Int} (h : a = b) : Ending.returned (.int k a) = .returned (.int k b) := by rw [h]
theorem val_int {k : IntKind} {a b : Int} (h : a = b) : Value.int k a = .int k b := by rw [h]
theorem wrapU (z : Int) : IntKind.u64.wrap z = z % 18446744073709551616 := by simp [IntKind.wrap, IntKind.signed, IntKind.bits]
theorem wrapN (n : Nat) : IntKind.u64.wrap (n : Int) = ((n % 18446744073709551616 : Nat) : Int) := by rw [wrapU]; simp
theorem rot_and : ∀ m : Fin 64, 1 ≤ m.val → bits BinOp.and IntKind.u64 (IntKind.u64.wrap (-(64 - (m.val : Int)))) 63 = (m.val : Int) := by decide +kernel
/-- Nothing changes. -/
def Sm (w w' : World) : Prop := w' = w
theorem Sm.stays : Stays Sm := ⟨fun _ => rfl, fun h k => k.trans h⟩
theorem toNat_of {n : Nat} (h : n < 18446744073709551616) : (UInt64.ofNat n).toNat = n := UInt64.toNat_ofNat_of_lt' h

theorem wrapI_neg' : ∀ m : Fin 64, IntKind.i64.wrap (-(m.val : Int)) = -(m.val : Int) := by decide +kernel
theorem wrapI_neg {a : Nat} (h : a ≤ 63) : IntKind.i64.wrap (-(a : Int)) = -(a : Int) := wrapI_neg' ⟨a, by omega⟩

set_option maxHeartbeats 400000 in
theorem rot_any (x : UInt64) (n : Int) (k : Nat) (hk : 1 ≤ k) (hk2 : k ≤ 63) (hn : n = -(k : Int)) (w : World) : Calls Try.prog 60 #[.int .u64 (x.toNat : Int), .int .i64 n] w fun e w' => e = .returned (.int .u64 ((rotr k x).toNat : Int)) ∧ w' = w := by
  have hx : x.toNat < 18446744073709551616 := x.toNat_lt
  obtain ⟨m, hm, hkm, hm1, hm2⟩ : ∃ m : Nat, n = -(64 - (m : Int)) ∧ 64 - k = m ∧ 1 ≤ m ∧ m ≤ 63 := ⟨64 - k, by omega, rfl, by omega, by omega⟩
  have ha := rot_and ⟨m, by omega⟩ hm1
  simp only at ha
  subst hm
  clear hn
  go_enter Try.func60, Try.ntmps60
  go_wp2
  go_ret
  refine ⟨ret_int ?_, rfl⟩
  unfold rotr
  rw [hkm, show 64 - m = k from by omega]
  have e1 : IntKind.u64.wrap ((x.toNat : Int) * 2 ^ m) = ((x.toNat * 2 ^ m % 18446744073709551616 : Nat) : Int) := by
    rw [← wrapN]; simp
  have e2 : ((x.toNat : Int) / 2 ^ k) = ((x.toNat / 2 ^ k : Nat) : Int) := by simp
  have b1 : x.toNat * 2 ^ m % 18446744073709551616 < 18446744073709551616 := Nat.mod_lt _ (by omega)
  have b2 : x.toNat / 2 ^ k < 18446744073709551616 := Nat.lt_of_le_of_lt (Nat.div_le_self _ _) hx
  have : x.toNat * 2 ^ m % 18446744073709551616 ||| x.toNat / 2 ^ k < 2 ^ 64 := Nat.or_lt_two_pow (by omega) (by omega)
  rw [e1, e2, u64_or_nat _ _ b1 b2, toNat_of this]

theorem xorU (x y : UInt64) : bits .xor .u64 (x.toNat : Int) (y.toNat : Int) = ((x ^^^ y).toNat : Int) := by rw [u64_xor_nat _ _ x.toNat_lt y.toNat_lt, UInt64.toNat_xor]
theorem andU (x y : UInt64) : bits .and .u64 (x.toNat : Int) (y.toNat : Int) = ((x &&& y).toNat : Int) := by rw [u64_and_nat _ _ x.toNat_lt y.toNat_lt, UInt64.toNat_and]
theorem orU (x y : UInt64) : bits .or .u64 (x.toNat : Int) (y.toNat : Int) = ((x ||| y).toNat : Int) := by rw [u64_or_nat _ _ x.toNat_lt y.toNat_lt, UInt64.toNat_or]
theorem addU (x y : UInt64) : IntKind.u64.wrap ((x.toNat : Int) + (y.toNat : Int)) = ((x + y).toNat : Int) := by
  rw [UInt64.toNat_add, ← wrapN]; simp
theorem divU (x : UInt64) (c : Nat) : ((x.toNat : Int) / 2 ^ c) = ((UInt64.ofNat (x.toNat / 2 ^ c)).toNat : Int) := by
  rw [toNat_of (Nat.lt_of_le_of_lt (Nat.div_le_self _ _) x.toNat_lt)]; simp

set_option maxHeartbeats 400000 in
theorem rot3_any (x : UInt64) (a b c : Nat) (ha : 1 ≤ a ∧ a ≤ 63) (hb : 1 ≤ b ∧ b ≤ 63) (hc : 1 ≤ c ∧ c ≤ 63) (w : World) :
    Calls Try.prog 57 #[.int .u64 (x.toNat : Int), .int .i64 a, .int .i64 b, .int .i64 c] w fun e w' => e = .returned (.int .u64 ((rot3 a b c x).toNat : Int)) ∧ w' = w := by
  have hx : x.toNat < 18446744073709551616 := x.toNat_lt
  go_enter Try.func57, Try.ntmps57
  go_wp2_with fail
  refine (rot_any x _ a ha.1 ha.2 rfl _).mono ?_; rintro e w1 ⟨rfl, rfl⟩
  go_wp2_with fail
  refine (rot_any x _ b hb.1 hb.2 rfl _).mono ?_; rintro e w1 ⟨rfl, rfl⟩
  go_wp2_with fail
  refine (rot_any x _ c hc.1 hc.2 rfl _).mono ?_; rintro e w1 ⟨rfl, rfl⟩
  go_wp2
  go_ret
  refine ⟨ret_int ?_, rfl⟩
  rw [xorU, xorU, rot3]

set_option maxHeartbeats 400000 in
theorem shf3_any (x : UInt64) (a b c : Nat) (ha : 1 ≤ a ∧ a ≤ 63) (hb : 1 ≤ b ∧ b ≤ 63) (hc : 1 ≤ c ∧ c ≤ 63) (w : World) :
    Calls Try.prog 59 #[.int .u64 (x.toNat : Int), .int .i64 a, .int .i64 b, .int .i64 c] w fun e w' => e = .returned (.int .u64 ((shf3 a b c x).toNat : Int)) ∧ Below w.heap.size w w' := by
  have hx : x.toNat < 18446744073709551616 := x.toNat_lt
  go_enter Try.func59, Try.ntmps59
  go_wp2_with fail
  have hR := Sm.stays
  refine reg_start Sm follows_mixed ?_
-- region 1 of f34: 14 operations, draws: true
  refine reg_take (v := ?_) hR 0 rfl (by kernel_rfl) (by kernel_rfl) (by kernel_rfl) (fun _ _ _ h => h) (by rfl) ?_ ?_
  rotate_left
  · intro W hW; go_simp; try with_reducible rfl
  try simp only [Act.put, List.getElem_toArray, List.getElem_cons_succ, List.getElem_cons_zero, List.setIfInBounds_toArray, List.set_cons_zero, List.set_cons_succ]
  refine reg_take (v := ?_) hR 1 rfl (by kernel_rfl) (by kernel_rfl) (by kernel_rfl) (fun _ _ _ h => h) (by rfl) ?_ ?_
  rotate_left
  · intro W hW; go_simp; try with_reducible rfl
  try simp only [Act.put, List.getElem_toArray, List.getElem_cons_succ, List.getElem_cons_zero, List.setIfInBounds_toArray, List.set_cons_zero, List.set_cons_succ]
  refine reg_take (v := ?_) hR 2 rfl (by kernel_rfl) (by kernel_rfl) (by kernel_rfl) (fun _ _ _ h => h) (by rfl) ?_ ?_
  rotate_left
  · intro W hW; go_simp; try with_reducible rfl
  try simp only [Act.put, List.getElem_toArray, List.getElem_cons_succ, List.getElem_cons_zero, List.setIfInBounds_toArray, List.set_cons_zero, List.set_cons_succ]
  refine reg_take (v := ?_) hR 4 rfl (by kernel_rfl) (by kernel_rfl) (by kernel_rfl) (fun _ _ _ h => h) (by rfl) ?_ ?_
  rotate_left
  · intro W hW; go_simp; try with_reducible rfl
  try simp only [Act.put, List.getElem_toArray, List.getElem_cons_succ, List.getElem_cons_zero, List.setIfInBounds_toArray, List.set_cons_zero, List.set_cons_succ]
  refine reg_take (v := ?_) hR 5 rfl (by kernel_rfl) (by kernel_rfl) (by kernel_rfl) (fun _ _ _ h => h) (by rfl) ?_ ?_
  rotate_left
  · intro W hW; go_simp; try with_reducible rfl
  try simp only [Act.put, List.getElem_toArray, List.getElem_cons_succ, List.getElem_cons_zero, List.setIfInBounds_toArray, List.set_cons_zero, List.set_cons_succ]
  refine reg_take (v := ?_) hR 6 rfl (by kernel_rfl) (by kernel_rfl) (by kernel_rfl) (fun _ _ _ h => h) (by rfl) ?_ ?_
  rotate_left
  · intro W hW; go_simp; try with_reducible rfl
  try simp only [Act.put, List.getElem_toArray, List.getElem_cons_succ, List.getElem_cons_zero, List.setIfInBounds_toArray, List.set_cons_zero, List.set_cons_succ]
  refine reg_take (v := ?_) hR 9 rfl (by kernel_rfl) (by kernel_rfl) (by kernel_rfl) (fun _ _ _ h => h) (by rfl) ?_ ?_
  rotate_left
  · intro W hW; go_simp; try with_reducible rfl
  try simp only [Act.put, List.getElem_toArray, List.getElem_cons_succ, List.getElem_cons_zero, List.setIfInBounds_toArray, List.set_cons_zero, List.set_cons_succ]
  refine reg_take (v := ?_) hR 10 rfl (by kernel_rfl) (by kernel_rfl) (by kernel_rfl) (fun _ _ _ h => h) (by rfl) ?_ ?_
  rotate_left
  · intro W hW; go_simp; try with_reducible rfl
  try simp only [Act.put, List.getElem_toArray, List.getElem_cons_succ, List.getElem_cons_zero, List.setIfInBounds_toArray, List.set_cons_zero, List.set_cons_succ]
  refine reg_take (v := ?_) hR 11 rfl (by kernel_rfl) (by kernel_rfl) (by kernel_rfl) (fun _ _ _ h => h) (by rfl) ?_ ?_
  rotate_left
  · intro W hW; go_simp; try with_reducible rfl
  try simp only [Act.put, List.getElem_toArray, List.getElem_cons_succ, List.getElem_cons_zero, List.setIfInBounds_toArray, List.set_cons_zero, List.set_cons_succ]
  -- STEP 3: Op.call { callee := Callee.value (Operand.func 60), args := #[t9, t11], argTypes := #[25, 3] }
  refine reg_step hR 3 (by kernel_rfl) rfl fun K hK => ?_
  try simp only [Act.put, List.getElem_toArray, List.getElem_cons_succ, List.getElem_cons_zero, List.setIfInBounds_toArray, List.set_cons_zero, List.set_cons_succ]
  go_simp
  refine (rot_any x _ a ha.1 ha.2 (wrapI_neg ha.2) _).mono ?_; rintro e w1 ⟨rfl, rfl⟩
  refine hK.out _ _ ?_ ?_
  · exact rfl
  clear hK K
  try simp only [Act.put, List.getElem_toArray, List.getElem_cons_succ, List.getElem_cons_zero, List.setIfInBounds_toArray, List.set_cons_zero, List.set_cons_succ]
  -- STEP 7: Op.call { callee := Callee.value (Operand.func 60), args := #[t13, t15], argTypes := #[25, 3] }
  refine reg_step hR 7 (by kernel_rfl) rfl fun K hK => ?_
  try simp only [Act.put, List.getElem_toArray, List.getElem_cons_succ, List.getElem_cons_zero, List.setIfInBounds_toArray, List.set_cons_zero, List.set_cons_succ]
  go_simp
  refine (rot_any x _ b hb.1 hb.2 (wrapI_neg hb.2) _).mono ?_; rintro e w1 ⟨rfl, rfl⟩
  refine hK.out _ _ ?_ ?_
  · exact rfl
  clear hK K
  try simp only [Act.put, List.getElem_toArray, List.getElem_cons_succ, List.getElem_cons_zero, List.setIfInBounds_toArray, List.set_cons_zero, List.set_cons_succ]
  refine reg_take (v := ?_) hR 8 rfl (by kernel_rfl) (by kernel_rfl) (by kernel_rfl) (fun _ _ _ h => h) (by rfl) ?_ ?_
  rotate_left
  · intro W hW; go_simp; try with_reducible rfl
  try simp only [Act.put, List.getElem_toArray, List.getElem_cons_succ, List.getElem_cons_zero, List.setIfInBounds_toArray, List.set_cons_zero, List.set_cons_succ]
  refine reg_take (v := ?_) hR 12 rfl (by kernel_rfl) (by kernel_rfl) (by kernel_rfl) (fun _ _ _ h => h) (by rfl) ?_ ?_
  rotate_left
  · intro W hW; go_simp; try with_reducible rfl
  try simp only [Act.put, List.getElem_toArray, List.getElem_cons_succ, List.getElem_cons_zero, List.setIfInBounds_toArray, List.set_cons_zero, List.set_cons_succ]
  refine reg_take (v := ?_) hR 13 rfl (by kernel_rfl) (by kernel_rfl) (by kernel_rfl) (fun _ _ _ h => h) (by rfl) ?_ ?_
  rotate_left
  · intro W hW; go_simp; try with_reducible rfl
  try simp only [Act.put, List.getElem_toArray, List.getElem_cons_succ, List.getElem_cons_zero, List.setIfInBounds_toArray, List.set_cons_zero, List.set_cons_succ]
  refine reg_done (by kernel_rfl) ?_ _

  go_wp2
  go_ret
  refine ⟨ret_int ?_, (Below.refl _ _).drew⟩
  rw [divU, xorU, xorU, shf3]
end Go.Proofs.Ytjaoaikcmbfnmaa
