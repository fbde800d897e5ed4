/- A drawn region at two reads that are ready side by side; sums and differences of words. -/
import Derived.Test.YtdfaliadkpdfpaaMa
import Derived.Shelf.Spec.BitsCarry
namespace Go.Proofs.Ytdfaliadkpdfpaa
set_option linter.unusedSimpArgs false
set_option linter.unusedVariables false
open Go.RowKit Go.Shelf

section
variable {P : Program} {ops : Array Oper} {Q : Exit → Act → World → Prop} {R : World → World → Prop}
theorem reg_reads (hR : Stays R) (i j : Nat) {o p : Oper} {u v : Value} {fuel : Nat} {listed : Array Bool} {a : Act} {w : World}
    (hr : Region.ready .any ops listed = [i, j]) (hri : Region.ready .any ops (listed.setIfInBounds i true) = [j]) (hrj : Region.ready .any ops (listed.setIfInBounds j true) = [i])
    (ho : ops[i]? = some o) (hp : ops[j]? = some p)
    (wo : Region.wanted o (yielded ops a.tmps) = true) (wp : Region.wanted p (yielded ops a.tmps) = true)
    (wo' : Region.wanted o (yielded ops (a.put p.dst v).tmps) = true) (wp' : Region.wanted p (yielded ops (a.put o.dst u).tmps) = true)
    (eo : (execOp a.eval o).run P w = .ok (.value u) w) (ep : (execOp a.eval p).run P w = .ok (.value v) w)
    (eo' : (execOp (a.put p.dst v).eval o).run P w = .ok (.value u) w) (ep' : (execOp (a.put o.dst u).eval p).run P w = .ok (.value v) w)
    (hl : (listed.setIfInBounds j true).setIfInBounds i true = (listed.setIfInBounds i true).setIfInBounds j true) (ha : (a.put p.dst v).put o.dst u = (a.put o.dst u).put p.dst v)
    (h : wpAnyH P .any ops Q (R w) fuel ((listed.setIfInBounds i true).setIfInBounds j true) ((a.put o.dst u).put p.dst v) w) : wpAnyH P .any ops Q (R w) (fuel + 1 + 1) listed a w := by
  refine wpAnyH_all hr (by simp) fun x hx => ?_
  have hx2 : x = i ∨ x = j := by simpa using hx
  have one : ∀ (o' : Oper) (v' : Value) (a' : Act) (K : Act → World → Prop), (execOp a'.eval o').run P w = .ok (.value v') w → K (a'.put o'.dst v') w → o'.wp P a' w K Q := by
    intro o' v' a' K e k
    unfold Oper.wp
    rw [e]
    exact k
  rcases hx2 with rfl | rfl
  · unfold wpOp
    simp only [ho]
    rw [if_pos wo]
    refine .inl (one _ _ _ _ eo ⟨hR.refl w, ?_⟩)
    refine wpAnyH_all hri (by simp) fun y hy => ?_
    obtain rfl : y = j := by simpa using hy
    unfold wpOp
    simp only [hp]
    rw [if_pos wp']
    exact .inl (one _ _ _ _ ep' ⟨hR.refl w, h⟩)
  · unfold wpOp
    simp only [hp]
    rw [if_pos wp]
    refine .inl (one _ _ _ _ ep ⟨hR.refl w, ?_⟩)
    refine wpAnyH_all hrj (by simp) fun y hy => ?_
    obtain rfl : y = i := by simpa using hy
    unfold wpOp
    simp only [ho]
    rw [if_pos wo']
    refine .inl (one _ _ _ _ eo' ⟨hR.refl w, ?_⟩)
    rw [hl, ha]
    exact h
end

def ren25 : Go.Shelf.Ren := ⟨fun | 25 => 21 | n => n, fun | 22 => 31 | n => n, fun | n => n⟩
theorem lays25 : Go.Proofs.Lays7.n25 Try.prog ren25 := {
  mixed := by kernel_rfl
  f25 := Try.func21.trans (congrArg some (by kernel_rfl))
  t22 := Try.underlying31
  a22 := Try.isAgg31
  z22 := Try.sizeOf31
  v22 := Try.zeroValue31
  i22 := by kernel_rfl }
def ren26 : Go.Shelf.Ren := ⟨fun | 26 => 23 | n => n, fun | 22 => 31 | n => n, fun | n => n⟩
theorem lays26 : Go.Proofs.Lays7.n26 Try.prog ren26 := {
  mixed := by kernel_rfl
  f26 := Try.func23.trans (congrArg some (by kernel_rfl))
  t22 := Try.underlying31
  a22 := Try.isAgg31
  z22 := Try.sizeOf31
  v22 := Try.zeroValue31
  i22 := by kernel_rfl }
/-- A sum of two words and what came over, and what goes over. -/
theorem add64_any {x y c s o : UInt64} (hs : (x.toNat + y.toNat + c.toNat) % 18446744073709551616 = s.toNat) (ho : (x.toNat + y.toNat + c.toNat) / 18446744073709551616 = o.toNat) (hc : c.toNat ≤ 1) (w : World) :
    (callFunc 21 #[.int .u64 (x.toNat : Int), .int .u64 (y.toNat : Int), .int .u64 (c.toNat : Int)]).run Try.prog w = .ok (.value (.tuple #[.int .u64 (s.toNat : Int), .int .u64 (o.toNat : Int)])) w := by
  have h := Any7.bits_Add64 lays25 x.toNat y.toNat c.toNat hc w
  rw [hs, ho] at h
  exact h
theorem add64_0 {x y s o : UInt64} (hs : (x.toNat + y.toNat + 0) % 18446744073709551616 = s.toNat) (ho : (x.toNat + y.toNat + 0) / 18446744073709551616 = o.toNat) (w : World) :
    (callFunc 21 #[.int .u64 (x.toNat : Int), .int .u64 (y.toNat : Int), .int .u64 0]).run Try.prog w = .ok (.value (.tuple #[.int .u64 (s.toNat : Int), .int .u64 (o.toNat : Int)])) w := by
  have h := Any7.bits_Add64 lays25 x.toNat y.toNat 0 (by omega) w
  rw [hs, ho] at h
  exact h
theorem sub64_any {x y c s o : UInt64} (hs : (x.toNat + 18446744073709551616 - y.toNat - c.toNat) % 18446744073709551616 = s.toNat) (ho : (if x.toNat < y.toNat + c.toNat then 1 else 0) = o.toNat) (hc : c.toNat ≤ 1) (w : World) :
    (callFunc 23 #[.int .u64 (x.toNat : Int), .int .u64 (y.toNat : Int), .int .u64 (c.toNat : Int)]).run Try.prog w = .ok (.value (.tuple #[.int .u64 (s.toNat : Int), .int .u64 (o.toNat : Int)])) w := by
  have h := Any7.bits_Sub64 lays26 x.toNat y.toNat c.toNat hc w
  rw [hs, ho] at h
  exact h
theorem sub64_0 {x y s o : UInt64} (hs : (x.toNat + 18446744073709551616 - y.toNat - 0) % 18446744073709551616 = s.toNat) (ho : (if x.toNat < y.toNat + 0 then 1 else 0) = o.toNat) (w : World) :
    (callFunc 23 #[.int .u64 (x.toNat : Int), .int .u64 (y.toNat : Int), .int .u64 0]).run Try.prog w = .ok (.value (.tuple #[.int .u64 (s.toNat : Int), .int .u64 (o.toNat : Int)])) w := by
  have h := Any7.bits_Sub64 lays26 x.toNat y.toNat 0 (by omega) w
  rw [hs, ho] at h
  exact h

/-! ### How two words, and two numbers of words, stand to each other -/
def cmp1 (x y : Nat) : Int := if x < y then -1 else if y < x then 1 else 0
theorem nan_any (x : Nat) (w : World) : Calls Try.prog 28 #[.int .u64 (x : Int)] w fun e w' => e = .returned (.bool false) ∧ w' = w := by
  go_enter Try.func28, Try.ntmps28
  go_wp2
  go_ret
  exact ⟨by simp, rfl⟩
theorem cmp_any (a b : Nat) (w : World) : Calls Try.prog 27 #[.int .u64 (a : Int), .int .u64 (b : Int)] w fun e w' => e = .returned (.int .i64 (cmp1 a b)) ∧ w' = w := by
  unfold cmp1
  by_cases h1 : a < b
  · rw [if_pos h1]
    have k1 : decide ((a : Int) < (b : Int)) = true := by simp; omega
    go_enter Try.func27, Try.ntmps27
    go_wp2_with fail
    refine (nan_any a _).mono ?_; rintro e w1 ⟨rfl, rfl⟩
    go_wp2_with fail
    refine (nan_any b _).mono ?_; rintro e w1 ⟨rfl, rfl⟩
    go_wp2
    go_ret
    exact ⟨rfl, rfl⟩
  · rw [if_neg h1]
    have k1 : decide ((a : Int) < (b : Int)) = false := by simp; omega
    by_cases h2 : b < a
    · rw [if_pos h2]
      have k2 : decide ((b : Int) < (a : Int)) = true := by simp; omega
      go_enter Try.func27, Try.ntmps27
      go_wp2_with fail
      refine (nan_any a _).mono ?_; rintro e w1 ⟨rfl, rfl⟩
      go_wp2_with fail
      refine (nan_any b _).mono ?_; rintro e w1 ⟨rfl, rfl⟩
      go_wp2
      go_ret
      exact ⟨rfl, rfl⟩
    · rw [if_neg h2]
      have k2 : decide ((b : Int) < (a : Int)) = false := by simp; omega
      go_enter Try.func27, Try.ntmps27
      go_wp2_with fail
      refine (nan_any a _).mono ?_; rintro e w1 ⟨rfl, rfl⟩
      go_wp2_with fail
      refine (nan_any b _).mono ?_; rintro e w1 ⟨rfl, rfl⟩
      go_wp2
      go_ret
      exact ⟨rfl, rfl⟩
end Go.Proofs.Ytdfaliadkpdfpaa
