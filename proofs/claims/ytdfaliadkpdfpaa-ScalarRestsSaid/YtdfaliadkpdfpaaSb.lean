/- ScalarBits: a number is the sum of its bits' places; small ones are reckoned as whole numbers are. -/
import Derived.Test.YtdfaliadkpdfpaaLi
namespace Go.Proofs.Ytdfaliadkpdfpaa
set_option linter.unusedSimpArgs false
set_option linter.unusedVariables false
open Go.RowKit

theorem exec_eqT {o : Oper} {a : Act} {w : World} (x y : Operand) (ho : o.op = .binOp .eql 25 x y 25) {m : Nat} (hm : m < 256 ^ 32) (hx : a.eval x = num m) (hy : a.eval y = num m) :
    (execOp a.eval o).run Try.prog w = .ok (.value (.bool true)) w := by
  rw [exec_eqnum x y ho hm hm hx hy, decide_eq_true rfl]
theorem exec_add31 {o : Oper} {a : Act} {w : World} (x y : Operand) (ho : o.op = .binOp .add 31 x y 31) {m n : Nat} (hx : a.eval x = .int .u64 (m : Int)) (hy : a.eval y = .int .u64 (n : Int)) (h : m + n < 18446744073709551616) :
    (execOp a.eval o).run Try.prog w = .ok (.value (.int .u64 ((m + n : Nat) : Int))) w := by
  rw [exec_addI x y ho hx hy, wrapU, show ((m : Int) + (n : Int)) % 18446744073709551616 = ((m + n : Nat) : Int) by omega]
theorem exec_mul31 {o : Oper} {a : Act} {w : World} (x y : Operand) (ho : o.op = .binOp .mul 31 x y 31) {m n : Nat} (hx : a.eval x = .int .u64 (m : Int)) (hy : a.eval y = .int .u64 (n : Int)) (h : m * n < 18446744073709551616) :
    (execOp a.eval o).run Try.prog w = .ok (.value (.int .u64 ((m * n : Nat) : Int))) w := by
  have e : IntKind.u64.wrap ((m : Int) * (n : Int)) = ((m * n : Nat) : Int) := by
    rw [← Int.natCast_mul, wrapN, Nat.mod_eq_of_lt h]
  unfold execOp
  simp only [ho, hx, hy]
  simp [go_sem, Try.underlying31, e]
theorem exec_cvt {o : Oper} {a : Act} {w : World} (x : Operand) (ho : o.op = .convert 34 31 x) {m : Nat} (hx : a.eval x = .int .u32 (m : Int)) (h : m < 4294967296) :
    (execOp a.eval o).run Try.prog w = .ok (.value (.int .u64 (m : Int))) w := by
  have e : IntKind.u64.wrap (m : Int) = (m : Int) := by rw [wrapU]; omega
  unfold execOp
  simp only [ho, hx]
  simp [go_sem, Try.underlying31, Try.underlying34, e]

theorem wpList_val {ops : Array Oper} {rest : List Oper} {o : Oper} {a : Act} {w : World} {Q : Exit → Act → World → Prop} (hgd : o.guard = none) (v : Value) (h : (execOp a.eval o).run Try.prog w = .ok (.value v) w)
    (hk : wpList Try.prog ops Q rest (a.put o.dst v) w) : wpList Try.prog ops Q (o :: rest) a w := wpList_plain hgd fun _ hK => wp_val v h (hK _ _ hk)
/-- Two new variables of numbers. -/
theorem nv2_ex (u : World) (x y : Nat) : ∃ (u' : World) (p q : Nat), (((u.alloc (.cells z25.toArray 25)).alloc (.cells z25.toArray 25)).setRow u.heap.size (cs8 (le 32 x)).toArray).setRow (u.heap.size + 1) (cs8 (le 32 y)).toArray = u' ∧ u.heap.size = p ∧ u.heap.size + 1 = q ∧
    Bk u' p (cs8 (le 32 x)) ∧ Bk u' q (cs8 (le 32 y)) ∧ p ≠ q ∧ (∀ g cs, Bk u g cs → Bk u' g cs ∧ g ≠ p ∧ g ≠ q) ∧ Below u.heap.size u u' := by
  refine ⟨_, _, _, rfl, rfl, rfl, ?_, ?_, by omega, fun g cs h => ?_, ?_⟩
  · exact (((Bk.new u z25 25).old _).setRow _).other (by omega) _
  · have := Bk.new (u.alloc (.cells z25.toArray 25)) z25 25
    have h2 : Bk ((u.alloc (.cells z25.toArray 25)).alloc (.cells z25.toArray 25)) (u.heap.size + 1) z25 := by simpa using this
    exact (h2.other (by omega) _).setRow _
  · have hlt := h.lt
    exact ⟨(((h.old _).old _).other (by omega) _).other (by omega) _, by omega, by omega⟩
  · exact bl_setRow (bl_setRow (bl_alloc (bl_alloc (bl0 u) _) _) (Nat.le_refl _) _) (by omega) _
theorem sum_bits (a i : Nat) : (a / 2 ^ i % 2 = 1 → (a % 2 ^ i % LL + 2 ^ i % LL) % LL = a % 2 ^ (i + 1) % LL) ∧ (a / 2 ^ i % 2 = 0 → a % 2 ^ (i + 1) % LL = a % 2 ^ i % LL) := by
  have h := Nat.mod_pow_succ (b := 2) (x := a) (k := i)
  constructor
  · intro hb
    rw [hb, Nat.mul_one] at h
    rw [h, ← Nat.add_mod]
  · intro hb
    rw [hb, Nat.mul_zero] at h
    rw [h]
    rfl
theorem pow_dbl (i : Nat) : (2 ^ i % LL + 2 ^ i % LL) % LL = 2 ^ (i + 1) % LL := by
  rw [← Nat.add_mod, Nat.pow_succ]
  congr 1
  omega

set_option maxHeartbeats 6400000 in
set_option maxRecDepth 8192 in
theorem ScalarBits_walk (a m n : Nat) (ha : a < 256 ^ 32) (hm : m < 4294967296) (hn : n < 4294967296) (w : World) :
    Calls Try.prog 4 #[num a, .int .u32 (m : Int), .int .u32 (n : Int)] w fun e w' => e = .returned (.bool true) ∧ Below w.heap.size w w' := by
  have hp : m * n ≤ 4294967295 * 4294967295 := Nat.mul_le_mul (by omega) (by omega)
  have HML := Lib.hid hm
  have HNL := Lib.hid hn
  have HS := Lib.hid (show m + n < 18446744073709551616 by omega)
  have HP := Lib.hid (show m * n < 18446744073709551616 by omega)
  have HA := Lib.hid ha
  have HM := Lib.hid (show m < 256 ^ 32 by omega)
  have HN2 := Lib.hid (show n < 256 ^ 32 by omega)
  have HPB := Lib.hid (show m * n < 256 ^ 32 by omega)
  have HSB := Lib.hid (show m + n < 256 ^ 32 by omega)
  have HSR := Lib.hid (show (m + n) % LL = m + n from Nat.mod_eq_of_lt (Nat.lt_trans HS.out (by decide)))
  have HPR := Lib.hid (show m * n % LL = m * n from Nat.mod_eq_of_lt (Nat.lt_trans HP.out (by decide)))
  have H3 := Lib.hid (Bk.new w (cs8 (le 32 a)) 25)
  have HB := Lib.hid (bl_alloc (bl0 w) (.cells (cs8 (le 32 a)).toArray 25))
  clear ha hm hn hp
  rw [show num a = .agg (cs8 (le 32 a)).toArray from rfl]
  go_enter Try.func4, Try.ntmps4
  go_wp2_with fail
  obtain ⟨b3, hb3⟩ : ∃ b, w.heap.size = b := ⟨_, rfl⟩
  rw [hb3] at H3
  have hle3 := Nat.le_of_eq hb3
  generalize w.alloc (.cells (cs8 (le 32 a)).toArray 25) = w1 at H3 HB ⊢
  rw [show (Value.pointer (some ⟨w.heap.size, 0, none⟩)) = .pointer (some ⟨b3, 0, none⟩) by rw [hb3]]
  refine (lives_any _).mono ?_; rintro e u1 ⟨rfl, hb⟩
  have H3 := Lib.hid (H3.out.keep hb)
  have HB := Lib.hid (bl_call HB.out hb)
  clear hb
  go_wp2_with fail
  refine (small_any 1 (by omega) _).mono ?_; rintro e u2 ⟨rfl, hb⟩
  have H3 := Lib.hid (H3.out.keep hb)
  have HB := Lib.hid (bl_call HB.out hb)
  clear hb
  have HTA := Lib.hid ((Bk.new u2 z25 25).old (.cells z25.toArray 25))
  have HTB0 : Bk ((u2.alloc (.cells z25.toArray 25)).alloc (.cells z25.toArray 25)) (u2.heap.size + 1) z25 := by
    have := Bk.new (u2.alloc (.cells z25.toArray 25)) z25 25
    simpa using this
  have HTB := Lib.hid (HTB0.other (show u2.heap.size + 1 ≠ u2.heap.size by omega) (cs8 (le 32 (0))).toArray)
  have HTR : Hid (Bk (((u2.alloc (.cells z25.toArray 25)).alloc (.cells z25.toArray 25)).setRow u2.heap.size (cs8 (le 32 (0))).toArray) (u2.alloc (.cells z25.toArray 25)).heap.size z25) := by
    have e : (u2.alloc (.cells z25.toArray 25)).heap.size = u2.heap.size + 1 := by simp
    rw [e]
    exact HTB
  clear HTB0
  have HNX := Lib.hid (num_info (0))
  have HNY := Lib.hid (num_info (1))
  go_wp2_with (first | (refine wpList_alloc_z rfl 25 rfl z25 zero25 ?_) | (refine wpList_store_bk rfl 25 _ _ rfl u2.heap.size rfl (cs8 (le 32 (0))) z25 rfl HTA.out HNX.out (num_zlen _) (cs8_all _) ?_) | (refine wpList_store_bk rfl 25 _ _ rfl (u2.heap.size + 1) rfl (cs8 (le 32 (1))) z25 rfl HTB.out HNY.out (num_zlen _) (cs8_all _) ?_) | (refine wpList_store_bk rfl 25 _ _ rfl (u2.alloc (.cells z25.toArray 25)).heap.size rfl (cs8 (le 32 (1))) z25 rfl HTR.out HNY.out (num_zlen _) (cs8_all _) ?_) | fail)
  clear HTA HTR HTB HNX HNY
  obtain ⟨v7, b7, b8, e1, e2, e3, h7, h8, hn78, hold, hbl⟩ := nv2_ex u2 (0) (1)
  try rw [show (u2.alloc (.cells z25.toArray 25)).heap.size = u2.heap.size + 1 by simp]
  rw [e1, e3, e2]
  have hl7 : w.heap.size ≤ b7 := by rw [← e2]; exact HB.out.size
  have hl8 : w.heap.size ≤ b8 := by rw [← e3]; have := HB.out.size; omega
  clear e1 e2 e3
  have H7 := Lib.hid h7
  have H8 := Lib.hid h8
  clear h7 h8
  have hn3_7 := (hold _ _ H3.out).2
  have H3 := Lib.hid (hold _ _ H3.out).1
  have HB := Lib.hid (bl_call HB.out hbl)
  clear hold hbl
  go_wp2_with fail
  go_loopw [9] (fun v wr => ∃ i : Nat, i ≤ 256 ∧ v = .int .i64 (i : Int) ∧ Hid (Bk wr b3 (cs8 (le 32 a))) ∧ Hid (Bk wr b7 (cs8 (le 32 (a % 2 ^ i % LL)))) ∧ Hid (Bk wr b8 (cs8 (le 32 (2 ^ i % LL)))) ∧ Hid (Below w.heap.size w wr)) (fun v _ => 256 - (intOf v).toNat)
  case atStart =>
    refine ⟨0, by omega, rfl, H3, ?_, ?_, HB⟩
    · rw [show a % 2 ^ 0 % LL = 0 by rw [Nat.pow_zero, Nat.mod_one]; rfl]; exact H7
    · rw [show 2 ^ 0 % LL = 1 by decide]; exact H8
  case round =>
    clear H3 H7 H8 HB
    obtain ⟨i, hi, rfl, H3, H7, H8, HB⟩ := hrel
    by_cases hlt : i < 256
    · have HSTEP := Lib.hid (sum_bits a i)
      have HDBL := Lib.hid (pow_dbl i)
      have HI3 := Lib.hid (num_info a)
      have HI7 := Lib.hid (num_info (a % 2 ^ i % LL))
      have HI8 := Lib.hid (num_info (2 ^ i % LL))
      go_wp2_with (first | (refine wpList_load_at rfl 25 _ rfl ⟨b3, 0, none⟩ rfl (cs8 (le 32 a)) _ (H3.out.at_) Try.underlying25 rfl HI3.out ?_) | fail)
      refine (Bit_any a i hlt _).mono ?_; rintro e u3 ⟨rfl, hb⟩
      have H3 := Lib.hid (H3.out.keep hb)
      have H7 := Lib.hid (H7.out.keep hb)
      have H8 := Lib.hid (H8.out.keep hb)
      have HB := Lib.hid (bl_call HB.out hb)
      clear hb
      by_cases hbit : a / 2 ^ i % 2 = 1
      · rw [decide_eq_true hbit]
        have HST := Lib.hid (HSTEP.out.1 hbit)
        clear hbit
        go_wp2_with (first | (refine wpList_load_at rfl 25 _ rfl ⟨b7, 0, none⟩ rfl (cs8 (le 32 (a % 2 ^ i % LL))) _ (H7.out.at_) Try.underlying25 rfl HI7.out ?_) | (refine wpList_load_at rfl 25 _ rfl ⟨b8, 0, none⟩ rfl (cs8 (le 32 (2 ^ i % LL))) _ (H8.out.at_) Try.underlying25 rfl HI8.out ?_) | fail)
        refine (Add_any (a % 2 ^ i % LL) (2 ^ i % LL) (rest_big _) (rest_big _) _).mono ?_; rintro e u4 ⟨rfl, hb⟩
        rw [HST.out]
        have H3 := Lib.hid (H3.out.keep hb)
        have H7 := Lib.hid (H7.out.keep hb)
        have H8 := Lib.hid (H8.out.keep hb)
        have HB := Lib.hid (bl_call HB.out hb)
        clear hb
        have H3b := Lib.hid (H3.out.other (show b3 ≠ b7 by omega) (cs8 (le 32 (a % 2 ^ (i + 1) % LL))).toArray)
        have H7b := Lib.hid (H7.out.setRow (cs8 (le 32 (a % 2 ^ (i + 1) % LL))))
        have H8b := Lib.hid (H8.out.other (show b8 ≠ b7 by omega) (cs8 (le 32 (a % 2 ^ (i + 1) % LL))).toArray)
        have HBb := Lib.hid (bl_setRow HB.out (show w.heap.size ≤ b7 by omega) (cs8 (le 32 (a % 2 ^ (i + 1) % LL))).toArray)
        have HN7 := Lib.hid (num_info (a % 2 ^ (i + 1) % LL))
        go_wp2_with (first | (refine wpList_store_bk rfl 25 _ _ rfl b7 rfl (cs8 (le 32 (a % 2 ^ (i + 1) % LL))) (cs8 (le 32 (a % 2 ^ i % LL))) rfl H7.out HN7.out (by rw [cs8_length, cs8_length, le_length, le_length]) (cs8_all _) ?_) | (refine wpList_load_at rfl 25 _ rfl ⟨b8, 0, none⟩ rfl (cs8 (le 32 (2 ^ i % LL))) _ (H8b.out.at_) Try.underlying25 rfl HI8.out ?_) | fail)
        refine (Add_any (2 ^ i % LL) (2 ^ i % LL) (rest_big _) (rest_big _) _).mono ?_; rintro e u5 ⟨rfl, hb⟩
        rw [HDBL.out]
        have H3 := Lib.hid (H3b.out.keep hb)
        have H7 := Lib.hid (H7b.out.keep hb)
        have H8 := Lib.hid (H8b.out.keep hb)
        have HB := Lib.hid (bl_call HBb.out hb)
        clear hb H3b H7b H8b HBb
        have H3b := Lib.hid (H3.out.other (show b3 ≠ b8 by omega) (cs8 (le 32 (2 ^ (i + 1) % LL))).toArray)
        have H8b := Lib.hid (H8.out.setRow (cs8 (le 32 (2 ^ (i + 1) % LL))))
        have H7b := Lib.hid (H7.out.other (show b7 ≠ b8 by omega) (cs8 (le 32 (2 ^ (i + 1) % LL))).toArray)
        have HBb := Lib.hid (bl_setRow HB.out (show w.heap.size ≤ b8 by omega) (cs8 (le 32 (2 ^ (i + 1) % LL))).toArray)
        have HN8 := Lib.hid (num_info (2 ^ (i + 1) % LL))
        go_wp2_with (first | (refine wpList_store_bk rfl 25 _ _ rfl b8 rfl (cs8 (le 32 (2 ^ (i + 1) % LL))) (cs8 (le 32 (2 ^ i % LL))) rfl H8.out HN8.out (by rw [cs8_length, cs8_length, le_length, le_length]) (cs8_all _) ?_) | fail)
        go_roundw
        case rel => exact ⟨i + 1, by omega, by go_num, H3b, H7b, H8b, HBb⟩
        case measure => simp [intOf]; omega
      · rw [decide_eq_false hbit]
        have HST := Lib.hid (HSTEP.out.2 (by omega))
        clear hbit
        have H3b := H3
        have H7b := H7
        rw [← HST.out] at H7b
        have H8b := H8
        have HBb := HB
        go_wp2_with (first | (refine wpList_load_at rfl 25 _ rfl ⟨b8, 0, none⟩ rfl (cs8 (le 32 (2 ^ i % LL))) _ (H8b.out.at_) Try.underlying25 rfl HI8.out ?_) | fail)
        refine (Add_any (2 ^ i % LL) (2 ^ i % LL) (rest_big _) (rest_big _) _).mono ?_; rintro e u5 ⟨rfl, hb⟩
        rw [HDBL.out]
        have H3 := Lib.hid (H3b.out.keep hb)
        have H7 := Lib.hid (H7b.out.keep hb)
        have H8 := Lib.hid (H8b.out.keep hb)
        have HB := Lib.hid (bl_call HBb.out hb)
        clear hb H3b H7b H8b HBb
        have H3b := Lib.hid (H3.out.other (show b3 ≠ b8 by omega) (cs8 (le 32 (2 ^ (i + 1) % LL))).toArray)
        have H8b := Lib.hid (H8.out.setRow (cs8 (le 32 (2 ^ (i + 1) % LL))))
        have H7b := Lib.hid (H7.out.other (show b7 ≠ b8 by omega) (cs8 (le 32 (2 ^ (i + 1) % LL))).toArray)
        have HBb := Lib.hid (bl_setRow HB.out (show w.heap.size ≤ b8 by omega) (cs8 (le 32 (2 ^ (i + 1) % LL))).toArray)
        have HN8 := Lib.hid (num_info (2 ^ (i + 1) % LL))
        go_wp2_with (first | (refine wpList_store_bk rfl 25 _ _ rfl b8 rfl (cs8 (le 32 (2 ^ (i + 1) % LL))) (cs8 (le 32 (2 ^ i % LL))) rfl H8.out HN8.out (by rw [cs8_length, cs8_length, le_length, le_length]) (cs8_all _) ?_) | fail)
        go_roundw
        case rel => exact ⟨i + 1, by omega, by go_num, H3b, H7b, H8b, HBb⟩
        case measure => simp [intOf]; omega
    · obtain rfl : i = 256 := by omega
      rw [show a % 2 ^ 256 % LL = a % LL by rw [Nat.mod_eq_of_lt (show a < 2 ^ 256 from HA.out)]] at H7
      go_wp2_with fail
      refine (Rest_blk a HA.out b3 _ H3.out).mono ?_; rintro e u6 ⟨rfl, hb⟩
      have H7 := Lib.hid (H7.out.keep hb)
      have HB := Lib.hid (bl_call HB.out hb)
      clear hb
      have HT := Lib.hid (Bk.new u6 z25 25)
      have HN := Lib.hid (num_info (a % LL))
      go_wp2_with (first | (refine wpList_val rfl (.int .u64 (m : Int)) (exec_cvt _ rfl rfl HML.out) ?_) | (refine wpList_alloc_z rfl 25 rfl z25 zero25 ?_) | (refine wpList_store_bk rfl 25 _ _ rfl u6.heap.size rfl (cs8 (le 32 (a % LL))) z25 rfl HT.out HN.out (num_zlen _) (cs8_all _) ?_) | fail)
      obtain ⟨v10, b10, e1, e2, h10, hold, hbl⟩ := nv_ex u6 (a % LL)
      rw [e1, e2]
      clear e1 e2
      have H10 := Lib.hid h10
      clear h10
      have hn7_10 := (hold _ _ H7.out).2
      have H7 := Lib.hid (hold _ _ H7.out).1
      have HB := Lib.hid (bl_call HB.out hbl)
      clear hold hbl
      refine (small_any m (by have := HML.out; omega) _).mono ?_; rintro e u7 ⟨rfl, hb⟩
      have H7 := Lib.hid (H7.out.keep hb)
      have H10 := Lib.hid (H10.out.keep hb)
      have HB := Lib.hid (bl_call HB.out hb)
      clear hb
      go_wp2_with (first | (refine wpList_val rfl (.int .u64 (n : Int)) (exec_cvt _ rfl rfl HNL.out) ?_) | fail)
      refine (small_any n (by have := HNL.out; omega) _).mono ?_; rintro e u8 ⟨rfl, hb⟩
      have H7 := Lib.hid (H7.out.keep hb)
      have H10 := Lib.hid (H10.out.keep hb)
      have HB := Lib.hid (bl_call HB.out hb)
      clear hb
      have HTA := Lib.hid ((Bk.new u8 z25 25).old (.cells z25.toArray 25))
      have HTB0 : Bk ((u8.alloc (.cells z25.toArray 25)).alloc (.cells z25.toArray 25)) (u8.heap.size + 1) z25 := by
        have := Bk.new (u8.alloc (.cells z25.toArray 25)) z25 25
        simpa using this
      have HTB := Lib.hid (HTB0.other (show u8.heap.size + 1 ≠ u8.heap.size by omega) (cs8 (le 32 (m))).toArray)
      have HTR : Hid (Bk (((u8.alloc (.cells z25.toArray 25)).alloc (.cells z25.toArray 25)).setRow u8.heap.size (cs8 (le 32 (m))).toArray) (u8.alloc (.cells z25.toArray 25)).heap.size z25) := by
        have e : (u8.alloc (.cells z25.toArray 25)).heap.size = u8.heap.size + 1 := by simp
        rw [e]
        exact HTB
      clear HTB0
      have HNX := Lib.hid (num_info (m))
      have HNY := Lib.hid (num_info (n))
      go_wp2_with (first | (refine wpList_alloc_z rfl 25 rfl z25 zero25 ?_) | (refine wpList_store_bk rfl 25 _ _ rfl u8.heap.size rfl (cs8 (le 32 (m))) z25 rfl HTA.out HNX.out (num_zlen _) (cs8_all _) ?_) | (refine wpList_store_bk rfl 25 _ _ rfl (u8.heap.size + 1) rfl (cs8 (le 32 (n))) z25 rfl HTB.out HNY.out (num_zlen _) (cs8_all _) ?_) | (refine wpList_store_bk rfl 25 _ _ rfl (u8.alloc (.cells z25.toArray 25)).heap.size rfl (cs8 (le 32 (n))) z25 rfl HTR.out HNY.out (num_zlen _) (cs8_all _) ?_) | fail)
      clear HTA HTR HTB HNX HNY
      obtain ⟨v12, b12, b13, e1, e2, e3, h12, h13, hn1213, hold, hbl⟩ := nv2_ex u8 (m) (n)
      try rw [show (u8.alloc (.cells z25.toArray 25)).heap.size = u8.heap.size + 1 by simp]
      rw [e1, e3, e2]
      have hl12 : w.heap.size ≤ b12 := by rw [← e2]; exact HB.out.size
      have hl13 : w.heap.size ≤ b13 := by rw [← e3]; have := HB.out.size; omega
      clear e1 e2 e3
      have H12 := Lib.hid h12
      have H13 := Lib.hid h13
      clear h12 h13
      have hn7_12 := (hold _ _ H7.out).2
      have H7 := Lib.hid (hold _ _ H7.out).1
      have hn10_12 := (hold _ _ H10.out).2
      have H10 := Lib.hid (hold _ _ H10.out).1
      have HB := Lib.hid (bl_call HB.out hbl)
      clear hold hbl
      have hR := Old.stays
      refine reg_start Old follows_mixed ?_
      have H7 := Lib.hid H7.out.drew
      have H10 := Lib.hid H10.out.drew
      have H12 := Lib.hid H12.out.drew
      have H13 := Lib.hid H13.out.drew
      have HB := Lib.hid HB.out.drew
-- region 12 of f4: 47 operations, draws: true
      refine reg_take (v := ?_) hR 0 rfl (by kernel_rfl) (by kernel_rfl) (by kernel_rfl) (fun _ _ _ h => h) (by rfl) ?_ ?_
      rotate_left
      · intro W hW; go_simp; try with_reducible rfl
      try simp only [Act.put, List.getElem_toArray, List.getElem_cons_succ, List.getElem_cons_zero, List.setIfInBounds_toArray, List.set_cons_zero, List.set_cons_succ]
      refine reg_take (v := ?_) hR 1 rfl (by kernel_rfl) (by kernel_rfl) (by kernel_rfl) (fun _ _ _ h => h) (by rfl) ?_ ?_
      rotate_left
      · intro W hW; go_simp; try with_reducible rfl
      try simp only [Act.put, List.getElem_toArray, List.getElem_cons_succ, List.getElem_cons_zero, List.setIfInBounds_toArray, List.set_cons_zero, List.set_cons_succ]
      refine reg_take (v := ?_) hR 2 rfl (by kernel_rfl) (by kernel_rfl) (by kernel_rfl) (fun _ _ _ h => h) (by rfl) ?_ ?_
      rotate_left
      · intro W hW; go_simp; try with_reducible rfl
      try simp only [Act.put, List.getElem_toArray, List.getElem_cons_succ, List.getElem_cons_zero, List.setIfInBounds_toArray, List.set_cons_zero, List.set_cons_succ]
      refine reg_take (v := num (a % LL)) hR 3 rfl (by kernel_rfl) (by kernel_rfl) (by kernel_rfl) (fun _ _ _ h => h) (by rfl) ?_ ?_
      · intro W hW; exact exec_load_at 25 _ rfl ⟨b7, 0, none⟩ rfl (cs8 (le 32 (a % LL))) _ (H7.out.keep hW).at_ Try.underlying25 rfl (num_info _)
      try simp only [Act.put, List.getElem_toArray, List.getElem_cons_succ, List.getElem_cons_zero, List.setIfInBounds_toArray, List.set_cons_zero, List.set_cons_succ]
      refine reg_take (v := num (a % LL)) hR 4 rfl (by kernel_rfl) (by kernel_rfl) (by kernel_rfl) (fun _ _ _ h => h) (by rfl) ?_ ?_
      · intro W hW; exact exec_load_at 25 _ rfl ⟨b10, 0, none⟩ rfl (cs8 (le 32 (a % LL))) _ (H10.out.keep hW).at_ Try.underlying25 rfl (num_info _)
      try simp only [Act.put, List.getElem_toArray, List.getElem_cons_succ, List.getElem_cons_zero, List.setIfInBounds_toArray, List.set_cons_zero, List.set_cons_succ]
      refine reg_take (v := .bool true) hR 5 rfl (by kernel_rfl) (by kernel_rfl) (by kernel_rfl) (fun _ _ _ h => h) (by rfl) ?_ ?_
      · intro W hW; exact exec_eqT _ _ rfl (rest_big a) rfl rfl
      try simp only [Act.put, List.getElem_toArray, List.getElem_cons_succ, List.getElem_cons_zero, List.setIfInBounds_toArray, List.set_cons_zero, List.set_cons_succ]
      refine reg_take (v := ?_) hR 6 rfl (by kernel_rfl) (by kernel_rfl) (by kernel_rfl) (fun _ _ _ h => h) (by rfl) ?_ ?_
      rotate_left
      · intro W hW; go_simp; try with_reducible rfl
      try simp only [Act.put, List.getElem_toArray, List.getElem_cons_succ, List.getElem_cons_zero, List.setIfInBounds_toArray, List.set_cons_zero, List.set_cons_succ]
      refine reg_take (v := ?_) hR 7 rfl (by kernel_rfl) (by kernel_rfl) (by kernel_rfl) (fun _ _ _ h => h) (by rfl) ?_ ?_
      rotate_left
      · intro W hW; go_simp; try with_reducible rfl
      try simp only [Act.put, List.getElem_toArray, List.getElem_cons_succ, List.getElem_cons_zero, List.setIfInBounds_toArray, List.set_cons_zero, List.set_cons_succ]
      refine reg_take (v := num (m)) hR 8 rfl (by kernel_rfl) (by kernel_rfl) (by kernel_rfl) (fun _ _ _ h => h) (by rfl) ?_ ?_
      · intro W hW; exact exec_load_at 25 _ rfl ⟨b12, 0, none⟩ rfl (cs8 (le 32 (m))) _ (H12.out.keep hW).at_ Try.underlying25 rfl (num_info _)
      try simp only [Act.put, List.getElem_toArray, List.getElem_cons_succ, List.getElem_cons_zero, List.setIfInBounds_toArray, List.set_cons_zero, List.set_cons_succ]
      refine reg_take (v := num (n)) hR 9 rfl (by kernel_rfl) (by kernel_rfl) (by kernel_rfl) (fun _ _ _ h => h) (by rfl) ?_ ?_
      · intro W hW; exact exec_load_at 25 _ rfl ⟨b13, 0, none⟩ rfl (cs8 (le 32 (n))) _ (H13.out.keep hW).at_ Try.underlying25 rfl (num_info _)
      try simp only [Act.put, List.getElem_toArray, List.getElem_cons_succ, List.getElem_cons_zero, List.setIfInBounds_toArray, List.set_cons_zero, List.set_cons_succ]
      refine reg_take (v := ?_) hR 11 rfl (by kernel_rfl) (by kernel_rfl) (by kernel_rfl) (fun _ _ _ h => h) (by rfl) ?_ ?_
      rotate_left
      · intro W hW; go_simp; try with_reducible rfl
      try simp only [Act.put, List.getElem_toArray, List.getElem_cons_succ, List.getElem_cons_zero, List.setIfInBounds_toArray, List.set_cons_zero, List.set_cons_succ]
      refine reg_take (v := .int .u64 (m : Int)) hR 12 rfl (by kernel_rfl) (by kernel_rfl) (by kernel_rfl) (fun _ _ _ h => h) (by rfl) ?_ ?_
      · intro W hW; exact exec_cvt _ rfl rfl HML.out
      try simp only [Act.put, List.getElem_toArray, List.getElem_cons_succ, List.getElem_cons_zero, List.setIfInBounds_toArray, List.set_cons_zero, List.set_cons_succ]
      refine reg_take (v := ?_) hR 13 rfl (by kernel_rfl) (by kernel_rfl) (by kernel_rfl) (fun _ _ _ h => h) (by rfl) ?_ ?_
      rotate_left
      · intro W hW; go_simp; try with_reducible rfl
      try simp only [Act.put, List.getElem_toArray, List.getElem_cons_succ, List.getElem_cons_zero, List.setIfInBounds_toArray, List.set_cons_zero, List.set_cons_succ]
      refine reg_take (v := .int .u64 (n : Int)) hR 14 rfl (by kernel_rfl) (by kernel_rfl) (by kernel_rfl) (fun _ _ _ h => h) (by rfl) ?_ ?_
      · intro W hW; exact exec_cvt _ rfl rfl HNL.out
      try simp only [Act.put, List.getElem_toArray, List.getElem_cons_succ, List.getElem_cons_zero, List.setIfInBounds_toArray, List.set_cons_zero, List.set_cons_succ]
      refine reg_take (v := .int .u64 ((m + n : Nat) : Int)) hR 15 rfl (by kernel_rfl) (by kernel_rfl) (by kernel_rfl) (fun _ _ _ h => h) (by rfl) ?_ ?_
      · intro W hW; exact exec_add31 _ _ rfl rfl rfl HS.out
      try simp only [Act.put, List.getElem_toArray, List.getElem_cons_succ, List.getElem_cons_zero, List.setIfInBounds_toArray, List.set_cons_zero, List.set_cons_succ]
      -- STEP 10: Op.call { callee := Callee.value (Operand.func 10), args := #[t50, t51], argTypes := #[25, 25] }
      refine reg_step hR 10 (by kernel_rfl) rfl fun K hK => ?_
      try simp only [Act.put, List.getElem_toArray, List.getElem_cons_succ, List.getElem_cons_zero, List.setIfInBounds_toArray, List.set_cons_zero, List.set_cons_succ]
      go_simp
      refine (Add_any m n HM.out HN2.out _).mono ?_; rintro e x1 ⟨rfl, hb⟩
      refine hK.out _ _ ?_ ?_
      · exact hb
      have HB := Lib.hid (bl_call HB.out hb)
      have H12 := Lib.hid (H12.out.keep hb)
      have H13 := Lib.hid (H13.out.keep hb)
      clear hb
      clear hK K
      try simp only [Act.put, List.getElem_toArray, List.getElem_cons_succ, List.getElem_cons_zero, List.setIfInBounds_toArray, List.set_cons_zero, List.set_cons_succ]
      -- STEP 16: Op.call { callee := Callee.value (Operand.func 8), args := #[t57], argTypes := #[31] }
      refine reg_step hR 16 (by kernel_rfl) rfl fun K hK => ?_
      try simp only [Act.put, List.getElem_toArray, List.getElem_cons_succ, List.getElem_cons_zero, List.setIfInBounds_toArray, List.set_cons_zero, List.set_cons_succ]
      go_simp
      refine (small_any (m + n) HS.out _).mono ?_; rintro e x2 ⟨rfl, hb⟩
      refine hK.out _ _ ?_ ?_
      · exact hb
      have HB := Lib.hid (bl_call HB.out hb)
      have H12 := Lib.hid (H12.out.keep hb)
      have H13 := Lib.hid (H13.out.keep hb)
      clear hb
      clear hK K
      try simp only [Act.put, List.getElem_toArray, List.getElem_cons_succ, List.getElem_cons_zero, List.setIfInBounds_toArray, List.set_cons_zero, List.set_cons_succ]
      refine reg_take (v := .bool true) hR 17 rfl (by kernel_rfl) (by kernel_rfl) (by kernel_rfl) (fun _ _ _ h => h) (by rfl) ?_ ?_
      · intro W hW; exact exec_eqT _ _ rfl HSB.out (by show num ((m + n) % LL) = num (m + n); rw [HSR.out]) rfl
      try simp only [Act.put, List.getElem_toArray, List.getElem_cons_succ, List.getElem_cons_zero, List.setIfInBounds_toArray, List.set_cons_zero, List.set_cons_succ]
      refine reg_take (v := ?_) hR 18 rfl (by kernel_rfl) (by kernel_rfl) (by kernel_rfl) (fun _ _ _ h => h) (by rfl) ?_ ?_
      rotate_left
      · intro W hW; go_simp; try with_reducible rfl
      try simp only [Act.put, List.getElem_toArray, List.getElem_cons_succ, List.getElem_cons_zero, List.setIfInBounds_toArray, List.set_cons_zero, List.set_cons_succ]
      refine reg_take (v := ?_) hR 19 rfl (by kernel_rfl) (by kernel_rfl) (by kernel_rfl) (fun _ _ _ h => h) (by rfl) ?_ ?_
      rotate_left
      · intro W hW; go_simp; try with_reducible rfl
      try simp only [Act.put, List.getElem_toArray, List.getElem_cons_succ, List.getElem_cons_zero, List.setIfInBounds_toArray, List.set_cons_zero, List.set_cons_succ]
      refine reg_take (v := num (m)) hR 20 rfl (by kernel_rfl) (by kernel_rfl) (by kernel_rfl) (fun _ _ _ h => h) (by rfl) ?_ ?_
      · intro W hW; exact exec_load_at 25 _ rfl ⟨b12, 0, none⟩ rfl (cs8 (le 32 (m))) _ (H12.out.keep hW).at_ Try.underlying25 rfl (num_info _)
      try simp only [Act.put, List.getElem_toArray, List.getElem_cons_succ, List.getElem_cons_zero, List.setIfInBounds_toArray, List.set_cons_zero, List.set_cons_succ]
      refine reg_take (v := num (n)) hR 21 rfl (by kernel_rfl) (by kernel_rfl) (by kernel_rfl) (fun _ _ _ h => h) (by rfl) ?_ ?_
      · intro W hW; exact exec_load_at 25 _ rfl ⟨b13, 0, none⟩ rfl (cs8 (le 32 (n))) _ (H13.out.keep hW).at_ Try.underlying25 rfl (num_info _)
      try simp only [Act.put, List.getElem_toArray, List.getElem_cons_succ, List.getElem_cons_zero, List.setIfInBounds_toArray, List.set_cons_zero, List.set_cons_succ]
      refine reg_take (v := ?_) hR 23 rfl (by kernel_rfl) (by kernel_rfl) (by kernel_rfl) (fun _ _ _ h => h) (by rfl) ?_ ?_
      rotate_left
      · intro W hW; go_simp; try with_reducible rfl
      try simp only [Act.put, List.getElem_toArray, List.getElem_cons_succ, List.getElem_cons_zero, List.setIfInBounds_toArray, List.set_cons_zero, List.set_cons_succ]
      refine reg_take (v := .int .u64 (m : Int)) hR 24 rfl (by kernel_rfl) (by kernel_rfl) (by kernel_rfl) (fun _ _ _ h => h) (by rfl) ?_ ?_
      · intro W hW; exact exec_cvt _ rfl rfl HML.out
      try simp only [Act.put, List.getElem_toArray, List.getElem_cons_succ, List.getElem_cons_zero, List.setIfInBounds_toArray, List.set_cons_zero, List.set_cons_succ]
      refine reg_take (v := ?_) hR 25 rfl (by kernel_rfl) (by kernel_rfl) (by kernel_rfl) (fun _ _ _ h => h) (by rfl) ?_ ?_
      rotate_left
      · intro W hW; go_simp; try with_reducible rfl
      try simp only [Act.put, List.getElem_toArray, List.getElem_cons_succ, List.getElem_cons_zero, List.setIfInBounds_toArray, List.set_cons_zero, List.set_cons_succ]
      refine reg_take (v := .int .u64 (n : Int)) hR 26 rfl (by kernel_rfl) (by kernel_rfl) (by kernel_rfl) (fun _ _ _ h => h) (by rfl) ?_ ?_
      · intro W hW; exact exec_cvt _ rfl rfl HNL.out
      try simp only [Act.put, List.getElem_toArray, List.getElem_cons_succ, List.getElem_cons_zero, List.setIfInBounds_toArray, List.set_cons_zero, List.set_cons_succ]
      refine reg_take (v := .int .u64 ((m * n : Nat) : Int)) hR 27 rfl (by kernel_rfl) (by kernel_rfl) (by kernel_rfl) (fun _ _ _ h => h) (by rfl) ?_ ?_
      · intro W hW; exact exec_mul31 _ _ rfl rfl rfl HP.out
      try simp only [Act.put, List.getElem_toArray, List.getElem_cons_succ, List.getElem_cons_zero, List.setIfInBounds_toArray, List.set_cons_zero, List.set_cons_succ]
      -- STEP 22: Op.call { callee := Callee.value (Operand.func 7), args := #[t62, t63], argTypes := #[25, 25] }
      refine reg_step hR 22 (by kernel_rfl) rfl fun K hK => ?_
      try simp only [Act.put, List.getElem_toArray, List.getElem_cons_succ, List.getElem_cons_zero, List.setIfInBounds_toArray, List.set_cons_zero, List.set_cons_succ]
      go_simp
      refine (Mul_any m n HM.out HN2.out _).mono ?_; rintro e x3 ⟨rfl, hb⟩
      refine hK.out _ _ ?_ ?_
      · exact hb
      have HB := Lib.hid (bl_call HB.out hb)
      have H12 := Lib.hid (H12.out.keep hb)
      have H13 := Lib.hid (H13.out.keep hb)
      clear hb
      clear hK K
      try simp only [Act.put, List.getElem_toArray, List.getElem_cons_succ, List.getElem_cons_zero, List.setIfInBounds_toArray, List.set_cons_zero, List.set_cons_succ]
      -- STEP 28: Op.call { callee := Callee.value (Operand.func 8), args := #[t69], argTypes := #[31] }
      refine reg_step hR 28 (by kernel_rfl) rfl fun K hK => ?_
      try simp only [Act.put, List.getElem_toArray, List.getElem_cons_succ, List.getElem_cons_zero, List.setIfInBounds_toArray, List.set_cons_zero, List.set_cons_succ]
      go_simp
      refine (small_any (m * n) HP.out _).mono ?_; rintro e x4 ⟨rfl, hb⟩
      refine hK.out _ _ ?_ ?_
      · exact hb
      have HB := Lib.hid (bl_call HB.out hb)
      have H12 := Lib.hid (H12.out.keep hb)
      have H13 := Lib.hid (H13.out.keep hb)
      clear hb
      clear hK K
      try simp only [Act.put, List.getElem_toArray, List.getElem_cons_succ, List.getElem_cons_zero, List.setIfInBounds_toArray, List.set_cons_zero, List.set_cons_succ]
      refine reg_take (v := .bool true) hR 29 rfl (by kernel_rfl) (by kernel_rfl) (by kernel_rfl) (fun _ _ _ h => h) (by rfl) ?_ ?_
      · intro W hW; exact exec_eqT _ _ rfl HPB.out (by show num (m * n % LL) = num (m * n); rw [HPR.out]) rfl
      try simp only [Act.put, List.getElem_toArray, List.getElem_cons_succ, List.getElem_cons_zero, List.setIfInBounds_toArray, List.set_cons_zero, List.set_cons_succ]
      refine reg_take (v := ?_) hR 30 rfl (by kernel_rfl) (by kernel_rfl) (by kernel_rfl) (fun _ _ _ h => h) (by rfl) ?_ ?_
      rotate_left
      · intro W hW; go_simp; try with_reducible rfl
      try simp only [Act.put, List.getElem_toArray, List.getElem_cons_succ, List.getElem_cons_zero, List.setIfInBounds_toArray, List.set_cons_zero, List.set_cons_succ]
      refine reg_take (v := ?_) hR 31 rfl (by kernel_rfl) (by kernel_rfl) (by kernel_rfl) (fun _ _ _ h => h) (by rfl) ?_ ?_
      rotate_left
      · intro W hW; go_simp; try with_reducible rfl
      try simp only [Act.put, List.getElem_toArray, List.getElem_cons_succ, List.getElem_cons_zero, List.setIfInBounds_toArray, List.set_cons_zero, List.set_cons_succ]
      refine reg_take (v := num (m)) hR 32 rfl (by kernel_rfl) (by kernel_rfl) (by kernel_rfl) (fun _ _ _ h => h) (by rfl) ?_ ?_
      · intro W hW; exact exec_load_at 25 _ rfl ⟨b12, 0, none⟩ rfl (cs8 (le 32 (m))) _ (H12.out.keep hW).at_ Try.underlying25 rfl (num_info _)
      try simp only [Act.put, List.getElem_toArray, List.getElem_cons_succ, List.getElem_cons_zero, List.setIfInBounds_toArray, List.set_cons_zero, List.set_cons_succ]
      refine reg_take (v := num (n)) hR 33 rfl (by kernel_rfl) (by kernel_rfl) (by kernel_rfl) (fun _ _ _ h => h) (by rfl) ?_ ?_
      · intro W hW; exact exec_load_at 25 _ rfl ⟨b13, 0, none⟩ rfl (cs8 (le 32 (n))) _ (H13.out.keep hW).at_ Try.underlying25 rfl (num_info _)
      try simp only [Act.put, List.getElem_toArray, List.getElem_cons_succ, List.getElem_cons_zero, List.setIfInBounds_toArray, List.set_cons_zero, List.set_cons_succ]
      refine reg_take (v := num (m)) hR 34 rfl (by kernel_rfl) (by kernel_rfl) (by kernel_rfl) (fun _ _ _ h => h) (by rfl) ?_ ?_
      · intro W hW; exact exec_load_at 25 _ rfl ⟨b12, 0, none⟩ rfl (cs8 (le 32 (m))) _ (H12.out.keep hW).at_ Try.underlying25 rfl (num_info _)
      try simp only [Act.put, List.getElem_toArray, List.getElem_cons_succ, List.getElem_cons_zero, List.setIfInBounds_toArray, List.set_cons_zero, List.set_cons_succ]
      refine reg_take (v := ?_) hR 36 rfl (by kernel_rfl) (by kernel_rfl) (by kernel_rfl) (fun _ _ _ h => h) (by rfl) ?_ ?_
      rotate_left
      · intro W hW; go_simp; try with_reducible rfl
      try simp only [Act.put, List.getElem_toArray, List.getElem_cons_succ, List.getElem_cons_zero, List.setIfInBounds_toArray, List.set_cons_zero, List.set_cons_succ]
      refine reg_take (v := .int .u64 (m : Int)) hR 37 rfl (by kernel_rfl) (by kernel_rfl) (by kernel_rfl) (fun _ _ _ h => h) (by rfl) ?_ ?_
      · intro W hW; exact exec_cvt _ rfl rfl HML.out
      try simp only [Act.put, List.getElem_toArray, List.getElem_cons_succ, List.getElem_cons_zero, List.setIfInBounds_toArray, List.set_cons_zero, List.set_cons_succ]
      refine reg_take (v := ?_) hR 38 rfl (by kernel_rfl) (by kernel_rfl) (by kernel_rfl) (fun _ _ _ h => h) (by rfl) ?_ ?_
      rotate_left
      · intro W hW; go_simp; try with_reducible rfl
      try simp only [Act.put, List.getElem_toArray, List.getElem_cons_succ, List.getElem_cons_zero, List.setIfInBounds_toArray, List.set_cons_zero, List.set_cons_succ]
      refine reg_take (v := .int .u64 (n : Int)) hR 39 rfl (by kernel_rfl) (by kernel_rfl) (by kernel_rfl) (fun _ _ _ h => h) (by rfl) ?_ ?_
      · intro W hW; exact exec_cvt _ rfl rfl HNL.out
      try simp only [Act.put, List.getElem_toArray, List.getElem_cons_succ, List.getElem_cons_zero, List.setIfInBounds_toArray, List.set_cons_zero, List.set_cons_succ]
      refine reg_take (v := .int .u64 ((m * n : Nat) : Int)) hR 40 rfl (by kernel_rfl) (by kernel_rfl) (by kernel_rfl) (fun _ _ _ h => h) (by rfl) ?_ ?_
      · intro W hW; exact exec_mul31 _ _ rfl rfl rfl HP.out
      try simp only [Act.put, List.getElem_toArray, List.getElem_cons_succ, List.getElem_cons_zero, List.setIfInBounds_toArray, List.set_cons_zero, List.set_cons_succ]
      refine reg_take (v := num (m)) hR 42 rfl (by kernel_rfl) (by kernel_rfl) (by kernel_rfl) (fun _ _ _ h => h) (by rfl) ?_ ?_
      · intro W hW; exact exec_load_at 25 _ rfl ⟨b12, 0, none⟩ rfl (cs8 (le 32 (m))) _ (H12.out.keep hW).at_ Try.underlying25 rfl (num_info _)
      try simp only [Act.put, List.getElem_toArray, List.getElem_cons_succ, List.getElem_cons_zero, List.setIfInBounds_toArray, List.set_cons_zero, List.set_cons_succ]
      -- STEP 35: Op.call { callee := Callee.value (Operand.func 11), args := #[t74, t75, t76], argTypes := #[25, 25, 25] }
      refine reg_step hR 35 (by kernel_rfl) rfl fun K hK => ?_
      try simp only [Act.put, List.getElem_toArray, List.getElem_cons_succ, List.getElem_cons_zero, List.setIfInBounds_toArray, List.set_cons_zero, List.set_cons_succ]
      go_simp
      refine (MulAdd_any m n m HM.out HN2.out HM.out _).mono ?_; rintro e x5 ⟨rfl, hb⟩
      refine hK.out _ _ ?_ ?_
      · exact hb
      have HB := Lib.hid (bl_call HB.out hb)
      have H12 := Lib.hid (H12.out.keep hb)
      have H13 := Lib.hid (H13.out.keep hb)
      clear hb
      clear hK K
      try simp only [Act.put, List.getElem_toArray, List.getElem_cons_succ, List.getElem_cons_zero, List.setIfInBounds_toArray, List.set_cons_zero, List.set_cons_succ]
      -- STEP 41: Op.call { callee := Callee.value (Operand.func 8), args := #[t82], argTypes := #[31] }
      refine reg_step hR 41 (by kernel_rfl) rfl fun K hK => ?_
      try simp only [Act.put, List.getElem_toArray, List.getElem_cons_succ, List.getElem_cons_zero, List.setIfInBounds_toArray, List.set_cons_zero, List.set_cons_succ]
      go_simp
      refine (small_any (m * n) HP.out _).mono ?_; rintro e x6 ⟨rfl, hb⟩
      refine hK.out _ _ ?_ ?_
      · exact hb
      have HB := Lib.hid (bl_call HB.out hb)
      have H12 := Lib.hid (H12.out.keep hb)
      have H13 := Lib.hid (H13.out.keep hb)
      clear hb
      clear hK K
      try simp only [Act.put, List.getElem_toArray, List.getElem_cons_succ, List.getElem_cons_zero, List.setIfInBounds_toArray, List.set_cons_zero, List.set_cons_succ]
      -- STEP 43: Op.call { callee := Callee.value (Operand.func 10), args := #[t83, t84], argTypes := #[25, 25] }
      refine reg_step hR 43 (by kernel_rfl) rfl fun K hK => ?_
      try simp only [Act.put, List.getElem_toArray, List.getElem_cons_succ, List.getElem_cons_zero, List.setIfInBounds_toArray, List.set_cons_zero, List.set_cons_succ]
      go_simp
      refine (Add_any (m * n) m HPB.out HM.out _).mono ?_; rintro e x7 ⟨rfl, hb⟩
      refine hK.out _ _ ?_ ?_
      · exact hb
      have HB := Lib.hid (bl_call HB.out hb)
      have H12 := Lib.hid (H12.out.keep hb)
      have H13 := Lib.hid (H13.out.keep hb)
      clear hb
      clear hK K
      try simp only [Act.put, List.getElem_toArray, List.getElem_cons_succ, List.getElem_cons_zero, List.setIfInBounds_toArray, List.set_cons_zero, List.set_cons_succ]
      refine reg_take (v := .bool true) hR 44 rfl (by kernel_rfl) (by kernel_rfl) (by kernel_rfl) (fun _ _ _ h => h) (by rfl) ?_ ?_
      · intro W hW; exact exec_eqT _ _ rfl (rest_big (m * n + m)) rfl rfl
      try simp only [Act.put, List.getElem_toArray, List.getElem_cons_succ, List.getElem_cons_zero, List.setIfInBounds_toArray, List.set_cons_zero, List.set_cons_succ]
      refine reg_take (v := ?_) hR 45 rfl (by kernel_rfl) (by kernel_rfl) (by kernel_rfl) (fun _ _ _ h => h) (by rfl) ?_ ?_
      rotate_left
      · intro W hW; go_simp; try with_reducible rfl
      try simp only [Act.put, List.getElem_toArray, List.getElem_cons_succ, List.getElem_cons_zero, List.setIfInBounds_toArray, List.set_cons_zero, List.set_cons_succ]
      refine reg_take (v := ?_) hR 46 rfl (by kernel_rfl) (by kernel_rfl) (by kernel_rfl) (fun _ _ _ h => h) (by rfl) ?_ ?_
      rotate_left
      · intro W hW; go_simp; try with_reducible rfl
      try simp only [Act.put, List.getElem_toArray, List.getElem_cons_succ, List.getElem_cons_zero, List.setIfInBounds_toArray, List.set_cons_zero, List.set_cons_succ]
      refine reg_done (by kernel_rfl) ?_ _
      go_wp2
      go_ret
      exact ⟨rfl, HB.out⟩
end Go.Proofs.Ytdfaliadkpdfpaa
