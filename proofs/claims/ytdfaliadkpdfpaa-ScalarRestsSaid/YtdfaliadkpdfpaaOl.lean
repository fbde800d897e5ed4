/- A bit of a number; products. -/
import Derived.Test.YtdfaliadkpdfpaaOi
import Derived.Test.YtdfaliadkpdfpaaOj
import Derived.Test.YtdfaliadkpdfpaaOk
namespace Go.Proofs.Ytdfaliadkpdfpaa
set_option linter.unusedSimpArgs false
set_option linter.unusedVariables false
open Go.RowKit

theorem bit_and : ∀ (x : Fin 256) (r : Fin 8), (bits .and .u8 ((x.val : Int) / 2 ^ r.val) 1 == 1) = decide (x.val / 2 ^ r.val % 2 = 1) := by decide +kernel
theorem bit_eq (a i : Nat) : (bits .and .u8 (((a / 256 ^ (i / 8) % 256 : Nat) : Int) / 2 ^ (i % 8)) 1 == 1) = decide (a / 2 ^ i % 2 = 1) := by
  have h := bit_and ⟨a / 256 ^ (i / 8) % 256, Nat.mod_lt _ (by omega)⟩ ⟨i % 8, Nat.mod_lt _ (by omega)⟩
  refine h.trans ?_
  simp only
  have e1 : a / 256 ^ (i / 8) / 2 ^ (i % 8) = a / 2 ^ i := by
    rw [Nat.div_div_eq_div_mul, show (256 : Nat) = 2 ^ 8 from rfl, ← Nat.pow_mul, ← Nat.pow_add, show 8 * (i / 8) + i % 8 = i by omega]
  have e2 : a / 256 ^ (i / 8) % 256 / 2 ^ (i % 8) % 2 = a / 256 ^ (i / 8) / 2 ^ (i % 8) % 2 := by
    generalize a / 256 ^ (i / 8) = m
    have h8 : i % 8 < 8 := Nat.mod_lt _ (by omega)
    generalize i % 8 = r at h8
    have : r = 0 ∨ r = 1 ∨ r = 2 ∨ r = 3 ∨ r = 4 ∨ r = 5 ∨ r = 6 ∨ r = 7 := by omega
    rcases this with rfl | rfl | rfl | rfl | rfl | rfl | rfl | rfl <;> simp <;> omega
  rw [e2, e1]

set_option maxHeartbeats 800000 in
theorem Bit_any (a i : Nat) (hi : i < 256) (w : World) : Calls Try.prog 9 #[num a, .int .i64 (i : Int)] w fun e w' => e = .returned (.bool (decide (a / 2 ^ i % 2 = 1))) ∧ Below w.heap.size w w' := by
  have hX := (Bk.new w (cs8 (le 32 a)) 25).cell (k := i / 8) (v := .int .u8 ((a / 256 ^ (i / 8) % 256 : Nat) : Int)) (by
    rw [cs8, List.getElem?_map, le_at 32 a _ (by omega)]
    simp [B8])
  have h0 : decide (0 ≤ (i : Int)) = true := by simp
  have h1 : decide ((i : Int) < 256) = true := by simp; omega
  have h2 : i / 8 < 32 := by omega
  generalize hx : a / 256 ^ (i / 8) % 256 = x at hX
  rw [show num a = .agg (cs8 (le 32 a)).toArray from rfl]
  have HE := Lib.hid (bit_eq a i)
  rw [hx] at HE
  have HB := Lib.hid (bl_alloc (bl0 w) (.cells (cs8 (le 32 a)).toArray 25))
  go_enter Try.func9, Try.ntmps9
  go_wp2_with fail
  rw [HE.out]
  go_ret
  exact ⟨rfl, HB.out⟩

set_option maxHeartbeats 800000 in
theorem Mul_any (a b : Nat) (ha : a < 256 ^ 32) (hb : b < 256 ^ 32) (w : World) : Calls Try.prog 7 #[num a, num b] w fun e w' => e = .returned (num (a * b % LL)) ∧ Below w.heap.size w w' := by
  have HX := Lib.hid (((Bk.new w (cs8 (le 32 a)) 25).old (.cells (cs8 (le 32 b)).toArray 25)).old (.cells z25.toArray 25))
  have HY : Hid (Bk (((w.alloc (.cells (cs8 (le 32 a)).toArray 25)).alloc (.cells (cs8 (le 32 b)).toArray 25)).alloc (.cells z25.toArray 25)) (w.heap.size + 1) (cs8 (le 32 b))) := Lib.hid (by
    have := (Bk.new (w.alloc (.cells (cs8 (le 32 a)).toArray 25)) (cs8 (le 32 b)) 25).old (.cells z25.toArray 25)
    simpa using this)
  have HR : Hid (Bk (((w.alloc (.cells (cs8 (le 32 a)).toArray 25)).alloc (.cells (cs8 (le 32 b)).toArray 25)).alloc (.cells z25.toArray 25)) (w.heap.size + 1 + 1) z25) := Lib.hid (by
    have := Bk.new ((w.alloc (.cells (cs8 (le 32 a)).toArray 25)).alloc (.cells (cs8 (le 32 b)).toArray 25)) z25 25
    simpa using this)
  have HB := Lib.hid (bl_alloc (bl_alloc (bl_alloc (bl0 w) (.cells (cs8 (le 32 a)).toArray 25)) (.cells (cs8 (le 32 b)).toArray 25)) (.cells z25.toArray 25))
  have HA := Lib.hid ha
  have HBB := Lib.hid hb
  have HNA := Lib.hid (num_info a)
  have HNB := Lib.hid (num_info b)
  clear ha hb
  rw [show num a = .agg (cs8 (le 32 a)).toArray from rfl, show num b = .agg (cs8 (le 32 b)).toArray from rfl]
  go_enter Try.func7, Try.ntmps7
  go_wp2_with (first | (refine wpList_alloc_z rfl 25 rfl z25 zero25 ?_) | (refine wpList_load_at rfl 25 _ rfl ⟨w.heap.size, 0, none⟩ rfl (cs8 (le 32 a)) _ (HX.out.at_) Try.underlying25 rfl HNA.out ?_) | (refine wpList_load_at rfl 25 _ rfl ⟨w.heap.size + 1, 0, none⟩ rfl (cs8 (le 32 b)) _ (HY.out.at_) Try.underlying25 rfl HNB.out ?_) | fail)
  have hm := MulAdd_any a b 0 HA.out HBB.out (by decide)
  rw [Nat.add_zero] at hm
  refine (hm _).mono ?_; rintro e u5 ⟨rfl, hb5⟩
  have HR := Lib.hid (HR.out.keep hb5)
  have HB := Lib.hid (bl_call HB.out hb5)
  clear hb5 hm
  have HN := Lib.hid (num_info (a * b % LL))
  unfold num
  go_wp2_with (first | (refine wpList_store_bk rfl 25 _ _ rfl (w.heap.size + 1 + 1) rfl (cs8 (le 32 (a * b % LL))) z25 rfl HR.out HN.out (num_zlen _) (cs8_all _) ?_) | fail)
  exact ret_bk rfl (w.heap.size + 1 + 1) _ _ rfl rfl (HR.out.setRow _) Try.underlying25 rfl HN.out ⟨rfl, bl_setRow HB.out (by omega) _⟩
end Go.Proofs.Ytdfaliadkpdfpaa
