package sha

import (
	"math/big"
	"testing"
)

// roots are numbers at which a root's whole part changes, those beside them, and some between.
func roots() []uint64 {
	const most = 1<<32 - 1
	out := []uint64{0, 1, 2, 3, 5, 409, 410, 1 << 16, 1 << 31, 1<<31 + 1, 0x89abcdef, most - 2, most - 1, most}
	put := func(n uint64) {
		for _, x := range []uint64{n - 1, n, n + 1} {
			if n > 0 && x <= most {
				out = append(out, x)
			}
		}
	}
	for r := uint64(1); r <= 1625; r++ {
		put(r * r * r)
		put(r * r)
		put((65535 - r) * (65535 - r))
	}
	put(65535 * 65535)
	return out
}

// power is r's square, or cube.
func power(r *big.Int, n int) *big.Int {
	return new(big.Int).Exp(r, big.NewInt(int64(n)), nil)
}

// wholePart is the greatest number of which the power is not above n.
func wholePart(n uint64, p int) *big.Int {
	limit := new(big.Int).SetUint64(n)
	out := new(big.Int)
	for i := 16; i >= 0; i-- {
		more := new(big.Int).SetBit(out, i, 1)
		if power(more, p).Cmp(limit) <= 0 {
			out = more
		}
	}
	return out
}

// greatest fails unless the whole part and 64 bits behind it are the greatest of which the power is not above n.
func greatest(t *testing.T, name string, n, got uint64, p int) {
	t.Helper()
	r := new(big.Int).Lsh(wholePart(n, p), 64)
	r.Or(r, new(big.Int).SetUint64(got))
	limit := new(big.Int).Lsh(new(big.Int).SetUint64(n), uint(64*p))
	if power(r, p).Cmp(limit) > 0 {
		t.Fatalf("%s %d: %x is above", name, n, got)
	}
	if power(r.Add(r, big.NewInt(1)), p).Cmp(limit) <= 0 {
		t.Fatalf("%s %d: %x is not the greatest", name, n, got)
	}
}

func TestP21KnownRoots(t *testing.T) {
	for _, x := range []struct{ n, root, cube uint64 }{
		{0, 0, 0}, {1, 0, 0}, {2, 0x6a09e667f3bcc908, 0x428a2f98d728ae22}, {3, 0xbb67ae8584caa73b, 0x7137449123ef65cd},
		{4, 0, 0x965fea53d6e3c82b}, {8, 0xd413cccfe7799211, 0}, {64, 0, 0}, {19, 0x5be0cd19137e2179, 0xab1c5ed5da6d8118},
	} {
		if got := Root(x.n); got != x.root {
			t.Errorf("Root %d: %x, want %x", x.n, got, x.root)
		}
		if got := Cube(x.n); got != x.cube {
			t.Errorf("Cube %d: %x, want %x", x.n, got, x.cube)
		}
	}
}

func TestP21RootsOfPowers(t *testing.T) {
	for r := uint64(0); r <= 65535; r++ {
		if got := Root(r * r); got != 0 {
			t.Fatalf("Root of %d's square: %x", r, got)
		}
	}
	for r := uint64(0); r <= 1625; r++ {
		if got := Cube(r * r * r); got != 0 {
			t.Fatalf("Cube of %d's cube: %x", r, got)
		}
	}
}

func TestP22RootsAreTheGreatest(t *testing.T) {
	for _, n := range roots() {
		greatest(t, "Root", n, Root(n), 2)
		greatest(t, "Cube", n, Cube(n), 3)
	}
	for n := uint64(0); n < 1<<32; n += 1<<19 - 1 {
		greatest(t, "Root", n, Root(n), 2)
		greatest(t, "Cube", n, Cube(n), 3)
	}
}

func TestP21RootsOfGreaterNumbers(t *testing.T) {
	for _, low := range []uint64{0, 1, 2, 3, 7, 8, 1 << 31, 1<<32 - 1} {
		for _, high := range []uint64{1, 2, 3, 1 << 16, 1 << 31, 1<<32 - 1} {
			n := high<<32 | low
			if Root(n) != Root(low) || Cube(n) != Cube(low) {
				t.Errorf("%x is not taken as %x", n, low)
			}
		}
	}
}
