package text_test

import (
	"math"
	"math/big"
	"slices"
	"strconv"
	"strings"
	"testing"

	"thicket/api"
	"thicket/samples"
	"thicket/text"
)

// table returns the names in the order of api.Names, and their values.
func table(t *testing.T) (names []string, values map[string]string) {
	values = map[string]string{}
	for _, entry := range strings.Split(api.Names, " ") {
		parts := strings.Split(entry, "=")
		value := ""
		for _, code := range strings.Split(parts[1], ",") {
			number, err := strconv.ParseInt(code, 16, 32)
			if err != nil {
				t.Fatal(err)
			}
			value += string(rune(number))
		}
		names = append(names, parts[0])
		values[parts[0]] = value
	}
	return names, values
}

// beginnings returns the beginnings of the names, each once.
func beginnings(names []string) map[string]bool {
	all := map[string]bool{}
	for _, name := range names {
		for n := range len(name) + 1 {
			all[name[:n]] = true
		}
	}
	return all
}

// P1.4: Names yields the table, from the first name on, each time.
func TestNames(t *testing.T) {
	names, values := table(t)
	if len(names) != 2231 {
		t.Fatalf("%d names", len(names))
	}
	if !slices.IsSorted(names) {
		t.Fatal("the table is not sorted")
	}
	sequence := text.Names()
	for range 2 {
		var yielded []string
		for name, value := range sequence {
			yielded = append(yielded, name)
			if value != values[name] {
				t.Errorf("%q has the value %q, want %q", name, value, values[name])
			}
		}
		if !slices.Equal(yielded, names) {
			t.Errorf("%d names, not those of the table", len(yielded))
		}
	}
	for range 2 {
		var yielded []string
		for name := range sequence {
			yielded = append(yielded, name)
			if len(yielded) == 3 {
				break
			}
		}
		if !slices.Equal(yielded, names[:3]) {
			t.Errorf("a loop that ended early saw %q", yielded)
		}
	}
	for outer := range sequence {
		for inner := range sequence {
			if inner != outer {
				t.Errorf("an inner loop began with %q", inner)
			}
			break
		}
		break
	}
}

// P1.4: Named.
func TestNamed(t *testing.T) {
	for _, c := range []struct{ name, value string }{
		{"amp", "&"},
		{"amp;", "&"},
		{"AMP", "&"},
		{"AElig", "\u00C6"},
		{"AElig;", "\u00C6"},
		{"zwnj;", "\u200C"},
		{"zwj;", "\u200D"},
		{"NotEqualTilde;", "\u2242\u0338"},
		{"bne;", "=\u20E5"},
		{"NewLine;", "\n"},
		{"Afr;", "\U0001D504"},
		{"CounterClockwiseContourIntegral;", "\u2233"},
	} {
		if value, errno := text.Named(c.name); value != c.value || errno != api.OK {
			t.Errorf("Named(%q) = %q, %d", c.name, value, errno)
		}
	}
	for _, name := range []string{
		"", "a", "am", "bne", "Amp", "aMP;", "amp;;", "amp; ", " amp;", "&amp;", "amp=26", "amp=", "=26", "26", "A", "AEli",
		"AElig=C6", "AElig=C6 AElig", "AElig ", "zwnj", "zwnj;x", "zz", "zwnk;", "\x00", "\xFF", "amp\x00", "AMP=26 AMP;", ";", "\u00C6",
	} {
		if value, errno := text.Named(name); value != "" || errno != api.ErrNotFound {
			t.Errorf("Named(%q) = %q, %d", name, value, errno)
		}
	}
}

// P1.4: Longest.
func TestLongest(t *testing.T) {
	for _, c := range []struct {
		s     string
		n     int
		value string
	}{
		{"notit;", 3, "\u00AC"},
		{"notin;x", 6, "\u2209"},
		{"noti", 3, "\u00AC"},
		{"notin", 3, "\u00AC"},
		{"not", 3, "\u00AC"},
		{"not;", 4, "\u00AC"},
		{"notinva;", 8, "\u2209"},
		{"no", 0, ""},
		{"", 0, ""},
		{"amp", 3, "&"},
		{"amp;", 4, "&"},
		{"amp;;", 4, "&"},
		{"ampx;", 3, "&"},
		{"Amp;", 0, ""},
		{"&amp;", 0, ""},
		{"bne", 0, ""},
		{"bne;", 4, "=\u20E5"},
		{"NotEqualTilde", 0, ""},
		{"NotEqualTilde;;", 14, "\u2242\u0338"},
		{"AElig", 5, "\u00C6"},
		{"AElig=C6", 5, "\u00C6"},
		{"zwnj;zwnj;", 5, "\u200C"},
		{"zzzz", 0, ""},
		{"\xFF", 0, ""},
		{"\x00amp;", 0, ""},
		{"lt\xFF", 2, "<"},
	} {
		if n, value := text.Longest(c.s); n != c.n || value != c.value {
			t.Errorf("Longest(%q) = %d, %q", c.s, n, value)
		}
	}
	if n, value := text.Longest("amp;" + strings.Repeat("a", 1<<20)); n != 4 || value != "&" {
		t.Errorf("Longest of a long string = %d, %q", n, value)
	}
	if n, value := text.Longest(strings.Repeat("a", 1<<20)); n != 0 || value != "" {
		t.Errorf("Longest of a long string = %d, %q", n, value)
	}
}

// P1.4: all beginnings of names, alone and with a byte behind them, against
// plain searches of the list.
func TestSearches(t *testing.T) {
	names, values := table(t)
	begun := beginnings(names)
	check := func(s string) {
		value, errno := text.Named(s)
		want, isName := values[s]
		if value != want || (errno == api.OK) != isName || !isName && errno != api.ErrNotFound {
			t.Errorf("Named(%q) = %q, %d", s, value, errno)
		}
		if got := text.HasPrefix(s); got != begun[s] {
			t.Errorf("HasPrefix(%q) = %v", s, got)
		}
		longest := len(s)
		for longest > 0 && values[s[:longest]] == "" {
			longest--
		}
		if n, value := text.Longest(s); n != longest || value != values[s[:longest]] {
			t.Errorf("Longest(%q) = %d, %q, want %d", s, n, value, longest)
		}
	}
	for beginning := range begun {
		check(beginning)
		for _, behind := range []string{"\x00", " ", "1", "=", ";", ";;", "A", "a", "z", "{", "\xFF", "amp;"} {
			check(beginning + behind)
		}
	}
	samples.Joined(samples.Bytes(), 2, check)
}

// P1.4: HasPrefix.
func TestHasPrefix(t *testing.T) {
	for _, s := range []string{"", "A", "AElig", "AElig;", "NotEqualTild", "z", "zwnj;", "CounterClockwiseContourIntegral;"} {
		if !text.HasPrefix(s) {
			t.Errorf("HasPrefix(%q) = false", s)
		}
	}
	for _, s := range []string{"zwnj;;", "zz", "AElig=", "AElig;=C6", "amp;x", " ", "=", "&", "0", "\x00", "\xFF", "AElig=C6 AElig", "{", "@"} {
		if text.HasPrefix(s) {
			t.Errorf("HasPrefix(%q) = true", s)
		}
	}
}

// P1.5: the table of the chapter, and the numbers outside of it.
func TestCodePoint(t *testing.T) {
	replaced := map[int]rune{
		0x80: 0x20AC, 0x82: 0x201A, 0x83: 0x0192, 0x84: 0x201E, 0x85: 0x2026,
		0x86: 0x2020, 0x87: 0x2021, 0x88: 0x02C6, 0x89: 0x2030, 0x8A: 0x0160,
		0x8B: 0x2039, 0x8C: 0x0152, 0x8E: 0x017D, 0x91: 0x2018, 0x92: 0x2019,
		0x93: 0x201C, 0x94: 0x201D, 0x95: 0x2022, 0x96: 0x2013, 0x97: 0x2014,
		0x98: 0x02DC, 0x99: 0x2122, 0x9A: 0x0161, 0x9B: 0x203A, 0x9C: 0x0153,
		0x9E: 0x017E, 0x9F: 0x0178,
	}
	for code := -0x200; code <= 0x110200; code++ {
		want, listed := replaced[code]
		switch {
		case code <= 0 || code > 0x10FFFF || code >= 0xD800 && code <= 0xDFFF:
			want = 0xFFFD
		case !listed:
			want = rune(code)
		}
		if got := text.CodePoint(code); got != want {
			t.Errorf("CodePoint(%x) = %x, want %x", code, got, want)
		}
	}
	for _, code := range []int{math.MinInt, math.MinInt32, math.MaxInt32, math.MaxInt, 1<<32 + 'A', -1<<32 + 'A'} {
		if got := text.CodePoint(code); got != 0xFFFD {
			t.Errorf("CodePoint(%x) = %x", code, got)
		}
	}
}

// P1.5: Digits.
func TestDigits(t *testing.T) {
	const most = 0x110000
	for _, c := range []struct {
		s             string
		base, code, n int
	}{
		{"0fg", 16, 0x0F, 2},
		{"0fg", 10, 0, 1},
		{"0fg", 2, 0, 1},
		{"ffffffffff", 16, most, 10},
		{"", 16, 0, 0},
		{"", 10, 0, 0},
		{"g", 16, 0, 0},
		{"a", 10, 0, 0},
		{" 1", 10, 0, 0},
		{"-1", 10, 0, 0},
		{"+1", 16, 0, 0},
		{"0x10", 16, 0, 1},
		{"aBcDeF", 16, most, 6},
		{"aBcD", 16, 0xABCD, 4},
		{"AbCd;", 16, 0xABCD, 4},
		{"0123456789", 10, most, 10},
		{"123456", 10, 123456, 6},
		{"98765x", 10, 98765, 5},
		{"10FFFF", 16, 0x10FFFF, 6},
		{"110000", 16, most, 6},
		{"110001", 16, most, 6},
		{"1114111", 10, 0x10FFFF, 7},
		{"1114112", 10, most, 7},
		{"1114113", 10, most, 7},
		{"00000000000000000000000000000041", 16, 0x41, 32},
		{"18446744073709551616", 10, most, 20},
		{"18446744073709551681", 10, most, 20},
		{"10000000000000041", 16, most, 17},
		{"99999999999999999999999999", 10, most, 26},
		{"12", 0, 12, 2},
		{"12", -16, 12, 2},
		{"1f", 17, 1, 1},
		{"1f", 8, 1, 1},
		{"19", 8, 19, 2},
		{"19", math.MaxInt, 19, 2},
		{"19", math.MinInt, 19, 2},
		{"1\u0661", 10, 1, 1},
		{"1\xFF", 16, 1, 1},
		{"\xFF1", 16, 0, 0},
	} {
		if code, n := text.Digits(c.s, c.base); code != c.code || n != c.n {
			t.Errorf("Digits(%q, %d) = %x, %d, want %x, %d", c.s, c.base, code, n, c.code, c.n)
		}
	}
}

// P1.5: every run of up to four characters, against the library's numbers.
func TestDigitsByNumbers(t *testing.T) {
	all := map[int]string{10: "0123456789", 16: "0123456789abcdefABCDEF"}
	samples.Joined(strings.Split("019afAFgG/:@`;", ""), 4, func(s string) {
		s = "1" + s
		for base, digits := range all {
			n := len(s) - len(strings.TrimLeft(s, digits))
			number, _ := new(big.Int).SetString(s[:n], base)
			want := int(min(number.Int64(), 0x110000))
			if code, length := text.Digits(s, base); code != want || length != n {
				t.Errorf("Digits(%q, %d) = %x, %d, want %x, %d", s, base, code, length, want, n)
			}
		}
	})
	long := strings.Repeat("0", 1<<20)
	if code, n := text.Digits(long+"7", 10); code != 7 || n != 1<<20+1 {
		t.Errorf("Digits of zeros = %x, %d", code, n)
	}
	if code, n := text.Digits("1"+long, 16); code != 0x110000 || n != 1<<20+1 {
		t.Errorf("Digits of a long number = %x, %d", code, n)
	}
}
