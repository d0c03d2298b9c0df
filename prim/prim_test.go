package prim

import (
	"bytes"
	"math"
	"slices"
	"strings"
	"testing"

	"pawl/api"
	"pawl/term"
)

var modes = []byte{api.Real, api.Terms}

// start returns a Prim of a mode, with the seed seed.
func start(t *testing.T, mode byte) *Prim {
	t.Helper()
	p, e := New(mode, []byte("seed"))
	if e != api.OK || p == nil {
		t.Fatalf("New(%d) = %v, %d", mode, p, e)
	}
	return p
}

// filler has n bytes of which no two neighbours are alike.
func filler(n int) []byte {
	p := make([]byte, n)
	for i := range p {
		p[i] = byte(200 + 13*i + i>>8)
	}
	return p
}

func expectBytes(t *testing.T, what string, got, want []byte) {
	t.Helper()
	if !bytes.Equal(got, want) {
		t.Errorf("%s = %x, not %x", what, got, want)
	}
}

func expectUnlike(t *testing.T, what string, all [][]byte) {
	t.Helper()
	for i, x := range all {
		for k, y := range all[:i] {
			if bytes.Equal(x, y) {
				t.Errorf("%s: %d and %d are alike: %x", what, k, i, x)
			}
		}
	}
}

func TestNew(t *testing.T) {
	for mode := range 256 {
		p, e := New(byte(mode), []byte("seed"))
		if byte(mode) == api.Real || byte(mode) == api.Terms {
			if p == nil || e != api.OK || p.Mode() != byte(mode) || p.Made() != 0 {
				t.Errorf("New(%d) = %v, %d", mode, p, e)
			}
		} else if p != nil || e != api.ErrArg {
			t.Errorf("New(%d) = %v, %d: there is no such mode", mode, p, e)
		}
	}
	if p := start(t, api.Real); p.Table() != nil {
		t.Error("the mode Real has a table")
	}
	if p := start(t, api.Terms); p.Table() == nil || p.Table().Len() != 0 || p.Table() != p.Table() {
		t.Error("the mode Terms has no empty table")
	}
	if start(t, api.Terms).Table() == start(t, api.Terms).Table() {
		t.Error("two Prims have one table")
	}
}

func TestMade(t *testing.T) {
	for _, mode := range modes {
		p := start(t, mode)
		for i := range 10 {
			if p.Made() != i {
				t.Errorf("after %d keys, Made = %d", i, p.Made())
			}
			k := p.Fresh()
			p.Open(k, nil, p.Seal(k, nil, nil))
			p.Check(p.SignKey(k), nil, p.Sign(k, nil))
			p.Agree(k, p.Public(k))
			p.Derive(k, [][]byte{k}, "label", 8)
			p.Name(k)
		}
	}
}

func TestFreshUnlike(t *testing.T) {
	for _, mode := range modes {
		p := start(t, mode)
		var all [][]byte
		for range 300 {
			k := p.Fresh()
			if len(k) != Size {
				t.Errorf("a key of %d bytes", len(k))
			}
			all = append(all, k)
		}
		expectUnlike(t, "Fresh", all)
	}
}

// secrets returns some fresh keys, and some bytes that are no such keys.
func secrets(p *Prim) [][]byte {
	all := [][]byte{p.Fresh(), p.Fresh()}
	all = append(all, p.Derive(all[0], all[1:], "label", 2)...)
	all = append(all, p.Agree(all[0], p.Public(all[1])), p.Public(all[0]), nil)
	for _, n := range []int{1, 31, 32, 33, 64, 100} {
		all = append(all, filler(n))
	}
	return all
}

func TestAgreeIsOfBoth(t *testing.T) {
	for _, mode := range modes {
		p := start(t, mode)
		all := secrets(p)
		for i, a := range all {
			var keys [][]byte
			for k, b := range all {
				key := p.Agree(a, p.Public(b))
				if len(key) != Size || !bytes.Equal(key, p.Agree(b, p.Public(a))) {
					t.Errorf("mode %d: %d and %d do not agree", mode, i, k)
				}
				if mode == api.Real && len(b) > Size { // it is the same key as a shorter one
					continue
				}
				keys = append(keys, key)
			}
			expectUnlike(t, "Agree", keys)
		}
	}
}

var texts = []string{"", "a", "0:", "1:a", "text", "\x00", strings.Repeat("b", 16), strings.Repeat("c", 1000)}

func TestOpenWhatIsSealed(t *testing.T) {
	for _, mode := range modes {
		p := start(t, mode)
		for i, key := range secrets(p) {
			for _, with := range texts {
				for _, text := range texts {
					sealed := p.Seal(key, []byte(with), []byte(text))
					if got, ok := p.Open(key, []byte(with), sealed); !ok || string(got) != text {
						t.Errorf("mode %d, key %d, with %.20q: %.20q is opened to %.20q, %v", mode, i, with, text, got, ok)
					}
				}
			}
		}
	}
}

func expectShut(t *testing.T, p *Prim, key, with, sealed []byte, what string) {
	t.Helper()
	if got, ok := p.Open(key, with, sealed); ok || len(got) != 0 {
		t.Errorf("mode %d, %s: it is opened to %q, %v", p.Mode(), what, got, ok)
	}
}

func TestOpenNothingElse(t *testing.T) {
	for _, mode := range modes {
		p := start(t, mode)
		key, with := p.Fresh(), []byte("with")
		sealed := p.Seal(key, with, []byte("text"))
		for _, other := range [][]byte{p.Fresh(), p.Public(key), sealed, nil, filler(32), key[:31]} {
			expectShut(t, p, other, with, sealed, "another key")
		}
		for _, other := range []string{"", "wit", "with\x00", "With", "4:with", "text"} {
			expectShut(t, p, key, []byte(other), sealed, "with something else")
		}
		for i := range 8 * len(sealed) {
			sealed[i/8] ^= 1 << (i % 8)
			expectShut(t, p, key, with, sealed, "a bit is turned")
			sealed[i/8] ^= 1 << (i % 8)
		}
		for n := range sealed {
			expectShut(t, p, key, with, sealed[:n], "it is too short")
		}
		expectShut(t, p, key, with, append(bytes.Clone(sealed), 0), "it is too long")
		expectShut(t, p, key, with, append(bytes.Clone(sealed), make([]byte, 32)...), "it is too long")
		expectShut(t, p, key, with, p.Sign(key, []byte("text")), "it is a signature")
		expectShut(t, p, key, with, key, "it is a key")
		if got, ok := p.Open(key, with, sealed); !ok || string(got) != "text" {
			t.Errorf("it is opened to %q, %v", got, ok)
		}
	}
}

func TestCheckWhatIsSigned(t *testing.T) {
	for _, mode := range modes {
		p := start(t, mode)
		for i, secret := range secrets(p) {
			public := p.SignKey(secret)
			for _, msg := range texts[:5] {
				sig := p.Sign(secret, []byte(msg))
				if len(sig) != SigSize || !p.Check(public, []byte(msg), sig) {
					t.Errorf("mode %d: the signature by %d, of %q is refused: %x", mode, i, msg, sig)
				}
			}
		}
	}
}

func TestCheckNothingElse(t *testing.T) {
	for _, mode := range modes {
		p := start(t, mode)
		secret, other, msg := p.Fresh(), p.Fresh(), []byte("message")
		public, sig := p.SignKey(secret), p.Sign(secret, msg)
		refused := func(public, msg, sig []byte, what string) {
			t.Helper()
			if p.Check(public, msg, sig) {
				t.Errorf("mode %d, %s: it is taken", mode, what)
			}
		}
		for _, k := range [][]byte{p.SignKey(other), secret, sig, nil, filler(32), public[:31]} {
			refused(k, msg, sig, "another key")
		}
		for _, m := range []string{"", "messag", "message\x00", "Message"} {
			refused(public, []byte(m), sig, "another message")
		}
		for i := range 8 * len(sig) {
			sig[i/8] ^= 1 << (i % 8)
			refused(public, msg, sig, "a bit is turned")
			sig[i/8] ^= 1 << (i % 8)
		}
		for n := range sig {
			refused(public, msg, sig[:n], "it is too short")
		}
		refused(public, msg, append(bytes.Clone(sig), 0), "it is too long")
		refused(public, msg, p.Sign(other, msg), "it is signed by another one")
		refused(public, msg, append(p.Seal(secret, nil, msg), make([]byte, 64)...)[:64], "it is sealed")
		refused(public, msg, append(p.Fresh(), make([]byte, 32)...), "it is a key")
		if !p.Check(public, msg, sig) {
			t.Errorf("mode %d: it is refused", mode)
		}
	}
}

// TestDeriveCounts holds the number of keys against n, and the keys of fewer against those of more.
func TestDeriveCounts(t *testing.T) {
	for _, mode := range modes {
		p := start(t, mode)
		key, with := p.Fresh(), [][]byte{p.Fresh(), p.Fresh()}
		all := p.Derive(key, with, "label", 8)
		expectUnlike(t, "Derive", all)
		for n, want := range map[int]int{
			math.MinInt: 0, -1: 0, 0: 0, 1: 1, 2: 2, 3: 3, 7: 7, 8: 8, 9: 8, 256: 8, 1 << 59: 8, math.MaxInt: 8,
		} {
			if got := p.Derive(key, with, "label", n); !slices.EqualFunc(got, all[:want], bytes.Equal) {
				t.Errorf("mode %d: Derive of %d = %x", mode, n, got)
			}
		}
		for _, k := range all {
			if len(k) != Size {
				t.Errorf("mode %d: a key of %d bytes", mode, len(k))
			}
		}
	}
}

func TestDeriveIsOfAll(t *testing.T) {
	for _, mode := range modes {
		p := start(t, mode)
		a, b, c := p.Fresh(), p.Fresh(), p.Fresh()
		var all [][]byte
		for _, label := range []string{"", "label", "label0"} {
			for _, key := range [][]byte{a, b} {
				for _, with := range [][][]byte{nil, {a}, {b}, {a, b}, {b, a}, {a, b, c}, {nil}, {nil, a}} {
					all = append(all, p.Derive(key, with, label, 2)...)
				}
			}
		}
		expectUnlike(t, "Derive", all)
	}
}

func TestNameTellsParts(t *testing.T) {
	for _, mode := range modes {
		p := start(t, mode)
		var all [][]byte
		for _, parts := range [][]string{{}, {""}, {"", ""}, {"ab"}, {"a", "b"}, {"ab", ""}, {"", "ab"}, {"2:ab"}, {"b", "a"}, {"1:a1:b"}, {strings.Repeat("a", 70000)}} {
			var l [][]byte
			for _, s := range parts {
				l = append(l, []byte(s))
			}
			name := p.Name(l...)
			if len(name) != Size {
				t.Errorf("a name of %d bytes", len(name))
			}
			expectBytes(t, "Name once more", p.Name(l...), name)
			all = append(all, name)
		}
		expectUnlike(t, "Name", all)
		expectBytes(t, "Name of nil", p.Name(nil), p.Name([]byte{}))
	}
}

func TestNone(t *testing.T) {
	k := filler(32)
	for _, p := range []*Prim{nil, {}} {
		for i, got := range [][]byte{
			p.Fresh(), p.Public(k), p.SignKey(k), p.Agree(k, k), p.Seal(k, k, k), p.Sign(k, k), p.Name(k, k), p.Name(),
			slices.Concat(p.Derive(k, [][]byte{k}, "label", 2)...),
		} {
			if len(got) != 0 {
				t.Errorf("answer %d: %x", i, got)
			}
		}
		if text, ok := p.Open(k, k, start(t, api.Real).Seal(k, k, k)); ok || len(text) != 0 {
			t.Errorf("Open = %x, %v", text, ok)
		}
		other := start(t, api.Real)
		if p.Check(other.SignKey(k), k, other.Sign(k, k)) {
			t.Error("Check")
		}
		if p.Mode() != api.Real || p.Table() != nil || p.Made() != 0 || len(p.Derive(k, nil, "", 2)) != 0 {
			t.Errorf("Mode %d, Made %d", p.Mode(), p.Made())
		}
	}
}

// answers calls everything with parts of one array.
func answers(p *Prim, all []byte) [][]byte {
	a, b, with, text := all[:32], all[32:64], all[64:80], all[80:]
	sealed, sig := p.Seal(a, with, text), p.Sign(a, text)
	opened, _ := p.Open(a, with, sealed)
	out := [][]byte{sealed, sig, opened, p.Fresh(), p.Public(a), p.SignKey(b), p.Agree(a, p.Public(b)), p.Agree(a, b), p.Name(a, b, with), p.Name()}
	out = append(out, p.Derive(a, [][]byte{b, with, text}, "label", 3)...)
	if !p.Check(p.SignKey(a), text, sig) {
		out = append(out, []byte("refused"))
	}
	return out
}

// TestOnlyArguments holds P2 and the rule of memory against this package.
func TestOnlyArguments(t *testing.T) {
	for _, mode := range modes {
		seed := []byte("seed")
		p, _ := New(mode, seed)
		clear(seed)
		all := append(filler(100), filler(50)...)
		first := answers(p, all[:100])
		var kept [][]byte
		for _, x := range first {
			kept = append(kept, bytes.Clone(x))
		}
		if !bytes.Equal(all, append(filler(100), filler(50)...)) {
			t.Errorf("mode %d: an argument, or what stands behind it, was changed", mode)
		}
		clear(all)
		for i, x := range answers(start(t, mode), filler(100)) {
			expectBytes(t, "of another Prim", x, kept[i])
			expectBytes(t, "after a change of an argument", first[i], kept[i])
		}
		for i, x := range first {
			for k := range x {
				x[k]++
			}
			_ = append(x, 1, 2, 3)
			for k := i + 1; k < len(first); k++ {
				expectBytes(t, "after a change of another answer", first[k], kept[k])
			}
		}
		if mode == api.Real {
			continue
		}
		for i := range p.Table().Len() {
			x, _ := p.Table().Get(i)
			if y, ok := p.Table().Find(x); !ok || y != i {
				t.Errorf("the term %d was changed", i)
			}
		}
	}
}

// TestTermsOfArguments: terms keep what they were made of when the arguments are changed.
func TestTermsOfArguments(t *testing.T) {
	p := start(t, api.Terms)
	key, with, text := filler(40), []byte("with"), []byte("text")
	sealed, sig, name := p.Seal(key, with, text), p.Sign(key, text), p.Name(text)
	public := p.SignKey(key)
	clear(key)
	clear(with)
	clear(text)
	if got, ok := p.Open(filler(40), []byte("with"), sealed); !ok || string(got) != "text" {
		t.Errorf("Open = %q, %v", got, ok)
	}
	if !p.Check(public, []byte("text"), sig) || !bytes.Equal(p.Name([]byte("text")), name) {
		t.Error("Check, or Name")
	}
	opened, _ := p.Open(filler(40), []byte("with"), sealed)
	clear(opened)
	if x, ok := p.Table().Get(p.Table().Read(sealed)); !ok || x.Text != term.Mark([]byte("with"))+term.Mark([]byte("text")) {
		t.Errorf("the sealed term became %v", x)
	}
}
