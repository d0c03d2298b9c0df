package instant

import (
	"math"
	"testing"
)

var (
	inf   = math.Inf(1)
	nan   = math.NaN()
	zero  = 0.0
	minus = math.Copysign(0, -1)
	most  = math.MaxFloat64
	tiny  = math.SmallestNonzeroFloat64
	small = math.Float64frombits(1 << 52) // the least normal number
)

// rising has times in the order of P1.1.
func rising() []float64 {
	return []float64{-inf, -most, -3, -1, -small, -tiny, minus, zero, tiny, small, 1, 3, most, inf, nan}
}

// nans are NaNs by different bits: quiet ones and signalling ones, of both signs.
func nans() []float64 {
	var l []float64
	for _, n := range []uint64{0x7ff8000000000001, 0x7ff0000000000001, 0x7fffffffffffffff, 0xfff8000000000000, 0xfff0000000000001, 0xffffffffffffffff} {
		l = append(l, math.Float64frombits(n))
	}
	return l
}

// equal compares bits, so that -0 is not 0; all NaNs are equal.
func equal(a, b float64) bool {
	return a != a && b != b || math.Float64bits(a) == math.Float64bits(b)
}

func TestKey(t *testing.T) {
	for _, c := range []struct {
		time float64
		want uint64
	}{
		{-inf, 0x000fffffffffffff},
		{-most, 0x0010000000000000},
		{-1, 0x400fffffffffffff},
		{-tiny, 0x7ffffffffffffffe},
		{minus, 0x7fffffffffffffff},
		{zero, 0x8000000000000000},
		{tiny, 0x8000000000000001},
		{1, 0xbff0000000000000},
		{most, 0xffefffffffffffff},
		{inf, 0xfff0000000000000},
		{nan, 0xffffffffffffffff},
	} {
		if got := Key(c.time); got != c.want {
			t.Errorf("Key(%v) = %x, not %x", c.time, got, c.want)
		}
	}
	for _, x := range nans() {
		if got := Key(x); got != math.MaxUint64 {
			t.Errorf("Key(NaN %x) = %x", math.Float64bits(x), got)
		}
	}
}

func TestTime(t *testing.T) {
	for _, x := range rising() {
		if got := Time(Key(x)); !equal(got, x) {
			t.Errorf("Time(Key(%v)) = %v", x, got)
		}
	}
	for _, n := range []uint64{0, 1, 0x0007ffffffffffff, 0x000ffffffffffffe, 0xfff0000000000001, 0xfff8000000000000, 0xfffffffffffffffe, 0xffffffffffffffff} {
		if got := Time(n); got == got {
			t.Errorf("Time(%x) = %v, not NaN", n, got)
		}
	}
	// Every number that is not a NaN's is the Key of its Time.
	for n := uint64(0x000fffffffffffff); n <= 0xfff0000000000000; n += 0x0001234567654321 {
		if got := Key(Time(n)); got != n {
			t.Fatalf("Key(Time(%x)) = %x", n, got)
		}
	}
}

func TestOrder(t *testing.T) {
	l := rising()
	for i, x := range l {
		for k, y := range l {
			if Before(x, y) != (i < k) {
				t.Errorf("Before(%v, %v) = %v", x, y, Before(x, y))
			}
			if Same(x, y) != (i == k) {
				t.Errorf("Same(%v, %v) = %v", x, y, Same(x, y))
			}
		}
	}
	for _, x := range nans() {
		for _, y := range nans() {
			if Before(x, y) || !Same(x, y) {
				t.Errorf("NaNs %x and %x are unlike", math.Float64bits(x), math.Float64bits(y))
			}
		}
		if !Before(inf, x) || Before(x, -inf) || Same(x, inf) {
			t.Errorf("NaN %x is not after all", math.Float64bits(x))
		}
	}
}

func TestIs(t *testing.T) {
	for _, x := range rising() {
		want := x == x && x != inf && x != -inf
		if Is(x) != want {
			t.Errorf("Is(%v) = %v", x, !want)
		}
	}
	for _, x := range nans() {
		if Is(x) {
			t.Errorf("Is(NaN %x)", math.Float64bits(x))
		}
	}
}

func TestPass(t *testing.T) {
	for _, c := range []struct{ now, d, want float64 }{
		{3, 2, 5},
		{-3, 2, -1},
		{0.5, 0.25, 0.75},
		{3, -2, 3},
		{3, 0, 3},
		{3, minus, 3},
		{3, -inf, 3},
		{1, nan, 1},
		{minus, nan, minus},
		{minus, 0, minus},
		{minus, tiny, tiny},
		{1, inf, most},
		{-most, inf, most},
		{most, most, most},
		{most, 1, most},
		{-most, most, 0},
		{nan, 2, 2},
		{nan, -2, 0},
		{nan, nan, 0},
		{nan, inf, most},
		{inf, 0, most},
		{inf, 1, most},
		{inf, nan, most},
		{inf, -inf, most},
		{-inf, 0, -most},
		{-inf, nan, -most},
		{-inf, most, 0},
		{-inf, inf, most},
	} {
		if got := Pass(c.now, c.d); !equal(got, c.want) {
			t.Errorf("Pass(%v, %v) = %v, not %v", c.now, c.d, got, c.want)
		}
	}
	for _, now := range rising() {
		for _, d := range rising() {
			got := Pass(now, d)
			if !Is(got) || Is(now) && Before(got, now) {
				t.Errorf("Pass(%v, %v) = %v", now, d, got)
			}
		}
	}
}

func TestOver(t *testing.T) {
	for _, c := range []struct {
		now, since, d float64
		want          bool
	}{
		{5, 2, 3, true},
		{5, 2, 2.5, true},
		{5, 2, 3.5, false},
		{2, 5, 3, false},
		{2, 5, tiny, false},
		{1, 9, 0, true},
		{1, 9, minus, true},
		{1, 9, -1, true},
		{1, 9, -inf, true},
		{inf, inf, 0, true},
		{inf, inf, 1, false},
		{-inf, -inf, 1, false},
		{-inf, -inf, -inf, true},
		{inf, -inf, most, true},
		{inf, 0, most, true},
		{0, -inf, 1, true},
		{-inf, 0, 1, false},
		{0, inf, 1, false},
		{most, -most, most, true},
		{9, 1, inf, false},
		{inf, 1, inf, false},
		{inf, -inf, inf, false},
		{5, 2, nan, false},
		{nan, 2, 3, false},
		{5, nan, 3, false},
		{nan, 2, 0, false},
		{5, nan, -1, false},
		{nan, nan, -inf, false},
	} {
		if got := Over(c.now, c.since, c.d); got != c.want {
			t.Errorf("Over(%v, %v, %v) = %v", c.now, c.since, c.d, got)
		}
	}
}

// TestOnlyArguments holds P2 against this package: a repeated call returns the same.
func TestOnlyArguments(t *testing.T) {
	type answer struct {
		key, pass  uint64
		over, less bool
	}
	ask := func(x, y float64) answer {
		return answer{Key(x), math.Float64bits(Pass(x, y)), Over(x, y, 1), Before(x, y)}
	}
	seen := map[[2]int]answer{}
	for range 2 {
		for i, x := range rising() {
			for k, y := range rising() {
				got := ask(x, y)
				if was, ok := seen[[2]int{i, k}]; ok && was != got {
					t.Errorf("%v, %v: %v, then %v", x, y, was, got)
				}
				seen[[2]int{i, k}] = got
			}
		}
	}
}
