/- Rows of words and bytes: read, written; a word read out of bytes. -/
import Derived.Test.YtjaoaikcmbfnmaaWd
namespace Go.Proofs.Ytjaoaikcmbfnmaa
open Go.RowKit

/-- The cell of a word. -/
def B64 (u : UInt64) : Value := .int .u64 (u.toNat : Int)
def cs64 (l : List UInt64) : List Value := l.map B64
theorem cs64_length (l : List UInt64) : (cs64 l).length = l.length := by simp [cs64]
theorem cs64_one (l : List UInt64) : (cs64 l).toArray.all (·.oneCell') = true := by
  simp [cs64, B64]
  intro u _
  rfl
theorem cs8_all (l : List UInt8) : (cs8 l).toArray.all (·.oneCell') = true := by
  simp [cs8, B8]
  intro u _
  rfl

theorem run_index8 {T : TypeId} {n : Nat} (hu : Try.prog.underlying T = some (.array n 5)) {cs : Array Value} {t : Nat} {v : Value} (ht : t < n) (hc : cs[t]? = some v) (w : World) :
    (Instr.index T (.agg cs) (.int .i64 (t : Int))).run Try.prog w = .ok v w := by
  simp [Instr.index, run_underlying hu, asIntOf, ht, Try.sizeOf5, part, Try.isAgg5, hc, go_sem]
theorem run_index64 {T : TypeId} {n : Nat} (hu : Try.prog.underlying T = some (.array n 25)) {cs : Array Value} {t : Nat} {v : Value} (ht : t < n) (hc : cs[t]? = some v) (w : World) :
    (Instr.index T (.agg cs) (.int .i64 (t : Int))).run Try.prog w = .ok v w := by
  simp [Instr.index, run_underlying hu, asIntOf, ht, Try.sizeOf25, part, Try.isAgg25, hc, go_sem]

theorem info69 : (Try.prog.info? 101).map (·.size) = some 8 := by kernel_rfl
theorem info41 : (Try.prog.info? 97).map (·.size) = some 128 := by kernel_rfl
theorem info38 : (Try.prog.info? 66).map (·.size) = some 8 := by kernel_rfl
theorem info47 : (Try.prog.info? 65).map (·.size) = some 80 := by kernel_rfl
theorem info33 : (Try.prog.info? 70).map (·.size) = some 64 := by kernel_rfl
theorem info36 : (Try.prog.info? 23).map (·.size) = some 32 := by kernel_rfl
theorem info49 : (Try.prog.info? 68).map (·.size) = some 96 := by kernel_rfl
theorem info60 : (Try.prog.info? 85).map (·.size) = some 10 := by kernel_rfl

theorem foldW (p : List UInt8) (t : Nat) (h : t < p.length) : (p.take (t + 1)).foldl wordStep 0 = wordStep ((p.take t).foldl wordStep 0) p[t] := by
  rw [List.take_succ_eq_append_getElem h, List.foldl_append]; rfl

theorem step_word (N : UInt64) (b : UInt8) : bits .or .u64 (IntKind.u64.wrap ((N.toNat : Int) * 256)) (b.toNat : Int) = ((wordStep N b).toNat : Int) := by
  have e1 : IntKind.u64.wrap ((N.toNat : Int) * 256) = ((N.toNat * 256 % 18446744073709551616 : Nat) : Int) := by
    rw [← wrapN]; simp
  have hb : b.toNat < 256 := b.toNat_lt
  rw [e1, u64_or_nat _ _ (Nat.mod_lt _ (by omega)) (by omega), wordStep]
  have : N.toNat * 256 % 18446744073709551616 ||| b.toNat < 2 ^ 64 := Nat.or_lt_two_pow (by omega) (by omega)
  rw [toNat_of this]

set_option maxHeartbeats 400000 in
theorem Word_any (p : List UInt8) (hp : p.length = 8) (w : World) : Calls Try.prog 58 #[.agg (cs8 p).toArray] w fun e w' => e = .returned (.int .u64 ((wordOf p).toNat : Int)) ∧ Below w.heap.size w w' := by
  have HS := Lib.hid (show (cs8 p).toArray.size = 8 by simp [cs8, hp])
  go_enter Try.func58, Try.ntmps58
  go_wp2_with (refine wpList_load_row rfl 101 _ rfl w.heap.size rfl 101 _ (0, 0) _ (heap_alloc_new w _) Try.underlying101 rfl (by rw [HS.out]; exact info69) ?_)
  go_loopw [3, 7] (fun vn vi wr => ∃ t : Nat, t ≤ 8 ∧ vi = .int .i64 (t : Int) ∧ vn = .int .u64 ((((p.take t).foldl wordStep 0).toNat : Nat) : Int) ∧ Below w.heap.size w wr) (fun _ vi _ => 8 - (intOf vi).toNat)
  case atStart => exact ⟨0, by omega, rfl, by simp, (Below.refl _ _).alloc (Nat.le_refl _) _⟩
  case round =>
    obtain ⟨t, ht, rfl, rfl, hb⟩ := hrel
    by_cases hlt : t < 8
    · have hc : (cs8 p).toArray[t]? = some (.int .u8 ((p[t]'(by omega)).toNat : Int)) := by simp [cs8, hp, hlt, B8]
      have hx := run_index8 Try.underlying101 hlt hc
      have HN := Lib.hid (foldW p t (by omega))
      generalize (p.take t).foldl wordStep 0 = N at HN ⊢
      generalize p[t]'(by omega) = b at hc hx HN
      have HW := Lib.hid (step_word N b)
      have hbb : b.toNat < 256 := b.toNat_lt
      clear hc
      go_wp2
      go_roundw
      case rel => exact ⟨t + 1, by omega, by go_num, by rw [HW.out, HN.out], hb⟩
      case measure => simp [intOf]; omega
    · go_wp2
      go_ret
      obtain rfl : t = 8 := by omega
      rw [List.take_of_length_le (by omega)]
      exact ⟨rfl, hb⟩
end Go.Proofs.Ytjaoaikcmbfnmaa
