package term

import (
	"slices"
	"strconv"
	"strings"
	"testing"

	"pawl/api"
)

func TestMark(t *testing.T) {
	for s, want := range map[string]string{
		"":              "0:",
		"ab":            "2:ab",
		":":             "1::",
		"2:ab":          "4:2:ab",
		"0123456789":    "10:0123456789",
		"\x00\xff\xfe":  "3:\x00\xff\xfe",
		"\u00e9\u20ac":  "5:\u00e9\u20ac", // bytes are counted, not runes
		spaces(99):      "99:" + spaces(99),
		spaces(100):     "100:" + spaces(100),
		spaces(1 << 16): "65536:" + spaces(1<<16),
	} {
		p := []byte(s)
		got := Mark(p)
		if got != want || string(p) != s {
			t.Errorf("Mark(%.20q) = %.20q", s, got)
		}
		for i := range p {
			p[i]++
		}
		if got != want {
			t.Errorf("Mark(%.20q) shares memory", s)
		}
	}
	if Mark(nil) != "0:" {
		t.Errorf("Mark(nil) = %q", Mark(nil))
	}
}

func spaces(n int) string { return strings.Repeat(" ", n) }

func marks(parts []string) string {
	var s string
	for _, p := range parts {
		s += Mark([]byte(p))
	}
	return s
}

func expectParts(t *testing.T, s string, want []string, is bool) {
	t.Helper()
	got, e := Parts(s)
	if is && (e != api.OK || !slices.Equal(got, want)) {
		t.Fatalf("Parts(%.40q) = %.40q, %d", s, got, e)
	}
	if !is && (e != api.ErrForm || len(got) != 0) {
		t.Fatalf("Parts(%.40q) = %.40q, %d: it is none", s, got, e)
	}
}

func TestParts(t *testing.T) {
	expectParts(t, "2:ab0:", []string{"ab", ""}, true)
	var all []string
	for _, p := range []string{"", "a", "", ":", "1:a", "0:", "12", "\x00", "\xff\xfe", spaces(9), spaces(10), spaces(1000), spaces(1 << 16)} {
		expectParts(t, Mark([]byte(p)), []string{p}, true)
		expectParts(t, marks(all), all, true)
		all = append(all, p)
	}
	expectParts(t, marks(all), all, true)
	expectParts(t, marks(slices.Repeat(all[:5], 1000)), slices.Repeat(all[:5], 1000), true)
}

func TestPartsOfNone(t *testing.T) {
	for _, s := range []string{
		":", "0", "1", "1:", "2:a", "a", "a:", "0:a", "1:ab", "0:0", "0:1:", "2:ab0", "2:ab:", "2:ab3:ab",
		"00:", "01:a", "002:ab", "+0:", "+1:a", "-0:", "-1:", "-1:a", " 1:a", "1 :a", "1 a", "1;a", "0x1:a", "1e0:a", "1.0:a", "1_0:0123456789", "\u0661:a",
		"9223372036854775807:a", "9223372036854775808:a", "18446744073709551616:", "18446744073709551617:a", "4294967297:a",
		strings.Repeat("9", 1000) + ":a", strings.Repeat("0", 1000) + ":", strings.Repeat("1", 1000), "-9223372036854775808:a",
	} {
		expectParts(t, s, nil, false)
		expectParts(t, "2:ab"+s, nil, false)
	}
}

// TestPartsCut: the beginnings of Marks are Marks only where a part ends.
func TestPartsCut(t *testing.T) {
	parts := []string{"ab", "", "1:a", spaces(12), "0:"}
	s := marks(parts)
	var ends []int
	for i := range len(parts) + 1 {
		ends = append(ends, len(marks(parts[:i])))
	}
	for n := range len(s) + 1 {
		i := slices.Index(ends, n)
		expectParts(t, s[:n], parts[:max(i, 0)], i >= 0)
	}
}

// slow finds the parts of s by trying every length.
func slow(s string) ([]string, bool) {
	if s == "" {
		return nil, true
	}
	for n := range len(s) {
		head := strconv.Itoa(n) + ":"
		if !strings.HasPrefix(s, head) || len(s) < len(head)+n {
			continue
		}
		if more, ok := slow(s[len(head)+n:]); ok {
			return append([]string{s[len(head) : len(head)+n]}, more...), true
		}
	}
	return nil, false
}

// TestPartsOfAll has every text of up to seven of some bytes.
func TestPartsOfAll(t *testing.T) {
	taken := 0
	for level, n := []string{""}, 0; n <= 7; n++ {
		var next []string
		for _, s := range level {
			want, ok := slow(s)
			expectParts(t, s, want, ok)
			if ok {
				taken++
			}
			for _, c := range "0123:+-" {
				next = append(next, s+string(c))
			}
		}
		level = next
	}
	if taken < 1000 {
		t.Errorf("only %d texts have parts", taken)
	}
}

func TestPartsNewEachTime(t *testing.T) {
	first, _ := Parts("1:a1:b")
	second, _ := Parts("1:a1:b")
	first[0] = "c"
	if !slices.Equal(second, []string{"a", "b"}) {
		t.Error("two results share memory")
	}
	expectParts(t, "1:a1:b", []string{"a", "b"}, true)
}
