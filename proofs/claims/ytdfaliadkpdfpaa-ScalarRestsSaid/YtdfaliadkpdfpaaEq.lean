/- Arrays of bytes, compared. -/
import Derived.Test.YtdfaliadkpdfpaaOl
import Derived.ChangeKeysEq
import Derived.Laws.StructEq
namespace Go.Proofs.Ytdfaliadkpdfpaa
set_option linter.unusedSimpArgs false
set_option linter.unusedVariables false
open Go.RowKit

theorem cellsOf5 : Try.prog.cellsOf 5 = 1 := by kernel_rfl

theorem part8 (l : List UInt8) (i : Nat) (h : i < l.length) (w : World) : (part 5 (cs8 l).toArray (i * 1)).run Try.prog w = .ok (B8 l[i]) w := by
  have hx : (cs8 l).toArray[i * 1]? = some (B8 l[i]) := by simp [cs8, h]
  unfold part
  simp only [Sem.run_bind, Try.isAgg5, Result.andThen_ok, hx]
  simp

theorem items8 (d : Nat) (a b : List UInt8) (hab : a.length = b.length) (w : World) : ∀ (is : List Nat), (∀ i ∈ is, i < a.length) →
    (Op.eqItems (d + 1) 5 1 (cs8 a).toArray (cs8 b).toArray is).run Try.prog w = .ok (is.all fun i => a[i]? == b[i]?) w
  | [], _ => by simp [Op.eqItems]
  | i :: is, h => by
    have hi := h i (by simp)
    have hi' : i < b.length := by omega
    have ih := items8 d a b hab w is (fun j hj => h j (by simp [hj]))
    simp only [Op.eqItems, Sem.run_bind, part8 a i hi w, part8 b i hi' w, Result.andThen_ok, B8, run_equalIn_int w d 5 .u8 .u8 _ _ Try.underlying5]
    rw [List.all_cons, List.getElem?_eq_getElem hi, List.getElem?_eq_getElem hi']
    by_cases he : a[i] = b[i]
    · rw [he]
      simp [ih]
    · have hne : (((a[i]).toNat : Int) == ((b[i]).toNat : Int)) = false := by
        rw [beq_eq_false_iff_ne]
        intro hc
        exact he (UInt8.toNat_inj.1 (by omega))
      simp [hne, he]

theorem arr8 (d : Nat) (t : TypeId) (n : Nat) (hu : Try.prog.underlying t = some (.array n 5)) (a b : List UInt8) (ha : a.length = n) (hb : b.length = n) (w : World) :
    (Op.equalIn (d + 2) t (.agg (cs8 a).toArray) (.agg (cs8 b).toArray)).run Try.prog w = .ok (decide (a = b)) w := by
  obtain ⟨i, hi, _, _, _⟩ := info_parts info_u8
  rw [run_equalIn_array (w := w) (d + 1) _ _ hu hi, cellsOf5, items8 d a b (by omega) w _ (fun i h => by simpa [ha] using h)]
  congr 1
  rw [Bool.eq_iff_iff, decide_eq_true_iff, List.all_eq_true]
  constructor
  · intro h
    apply List.ext_getElem?
    intro i
    by_cases hlt : i < n
    · simpa using h i (by simpa using hlt)
    · rw [List.getElem?_eq_none (by omega), List.getElem?_eq_none (by omega)]
  · intro h i _
    rw [h]
    simp


theorem exec_eqnum {o : Oper} {a : Act} {w : World} (x y : Operand) (ho : o.op = .binOp .eql 25 x y 25) {m n : Nat} (hm : m < 256 ^ 32) (hn : n < 256 ^ 32) (hx : a.eval x = num m) (hy : a.eval y = num n) :
    (execOp a.eval o).run Try.prog w = .ok (.value (.bool (decide (m = n)))) w := by
  have h := arr8 9998 25 32 Try.underlying25 (le 32 m) (le 32 n) (le_length _ _) (le_length _ _) w
  have hd : decide (le 32 m = le 32 n) = decide (m = n) := by
    rw [Bool.eq_iff_iff, decide_eq_true_iff, decide_eq_true_iff]
    exact ⟨le_inj hm hn, fun h => by rw [h]⟩
  rw [hd] at h
  have hg : Try.prog.eqGuardType Try.prog.depth 25 = false := by kernel_rfl
  unfold execOp
  simp only [ho, hx, hy, num]
  have h2 : (Op.equalIn 10000 25 (.agg (cs8 (le 32 m)).toArray) (.agg (cs8 (le 32 n)).toArray)).run Try.prog w = .ok (decide (m = n)) w := h
  simp [go_sem, run_eqGuard_agg (hm := hg), h2]

/-- A new variable of a number. -/
theorem nv_ex (u : World) (n : Nat) : ∃ (u' : World) (b : Nat), (u.alloc (.cells z25.toArray 25)).setRow u.heap.size (cs8 (le 32 n)).toArray = u' ∧ u.heap.size = b ∧ Bk u' b (cs8 (le 32 n)) ∧ (∀ g cs, Bk u g cs → Bk u' g cs ∧ g ≠ b) ∧ Below u.heap.size u u' := by
  refine ⟨_, _, rfl, rfl, (Bk.new u z25 25).setRow _, fun g cs h => ?_, ?_⟩
  · have hlt := h.lt
    exact ⟨(h.old _).other (by omega) _, by omega⟩
  · exact bl_setRow (bl_alloc (bl0 u) _) (Nat.le_refl _) _
theorem Rest_blk (n : Nat) (hn : n < 256 ^ 32) (g : Nat) (w : World) (hg : Bk w g (cs8 (le 32 n))) :
    Calls Try.prog 6 #[.slice (some ⟨g, 0, none⟩) 32 32] w fun e w' => e = .returned (.tuple #[num (n % LL), .int .i64 0]) ∧ Below w.heap.size w w' := by
  have h := Rest_any (some ⟨g, 0, none⟩) 32 32 (le 32 n) (by omega) w (rd_num n hg hg.lt)
  rw [val_le, Nat.mod_eq_of_lt hn] at h
  exact h
theorem LL_big : LL < 256 ^ 32 := by decide
theorem rest_big (n : Nat) : n % LL < 256 ^ 32 := Nat.lt_trans (Nat.mod_lt n LL_pos) LL_big
end Go.Proofs.Ytdfaliadkpdfpaa
