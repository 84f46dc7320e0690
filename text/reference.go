package text

import (
	"iter"
	"strings"

	"thicket/api"
)

// Named returns the value of a named character reference.
func Named(name string) (string, api.Errno) {
	entry, found := lastUpTo(name)
	if !found || entry.name != name {
		return "", api.ErrNotFound
	}
	return entry.value(), api.OK
}

// Longest returns the length and the value of the longest name that s begins with.
func Longest(s string) (n int, value string) {
	limit := s
shorter:
	for {
		entry, found := lastUpTo(limit)
		if !found {
			return 0, ""
		}
		for i := range len(entry.name) {
			// limit has this byte: otherwise the name would be greater.
			if entry.name[i] != limit[i] {
				// A longer beginning of limit that is a name would come
				// behind this entry, which is the last one up to limit.
				limit = limit[:i]
				continue shorter
			}
		}
		return len(entry.name), entry.value()
	}
}

// HasPrefix reports whether some name begins with s.
func HasPrefix(s string) bool {
	low, high := 0, len(api.Names)
halve:
	for low < high {
		start, end := entryAround((low + high) / 2)
		name := parse(api.Names[start:end]).name
		for i := range len(s) {
			switch {
			case i == len(name) || name[i] < s[i]:
				low = end + 1
				continue halve
			case name[i] > s[i]:
				high = start
				continue halve
			}
		}
		return true
	}
	return false
}

// Names returns a sequence over all names and their values.
func Names() iter.Seq2[string, string] {
	return func(yield func(string, string) bool) {
		for part := range strings.SplitSeq(api.Names, " ") {
			entry := parse(part)
			if !yield(entry.name, entry.value()) {
				return
			}
		}
	}
}

// reference is an entry of the table api.Names.
type reference struct {
	name  string
	codes string // hexadecimal, separated by commas
}

func parse(entry string) reference {
	name, codes, _ := strings.Cut(entry, "=")
	return reference{name, codes}
}

// value returns the string of the code points of the reference.
func (r reference) value() string {
	var out strings.Builder
	for digits := range strings.SplitSeq(r.codes, ",") {
		code, _ := Digits(digits, 16)
		out.WriteRune(rune(code))
	}
	return out.String()
}

// lastUpTo returns the last entry whose name is not greater than s, if there
// is one.
func lastUpTo(s string) (last reference, found bool) {
	low, high := 0, len(api.Names)
	for low < high {
		start, end := entryAround((low + high) / 2)
		entry := parse(api.Names[start:end])
		if entry.name <= s {
			last, found, low = entry, true, end+1
		} else {
			high = start
		}
	}
	return last, found
}

// entryAround returns where the entry of api.Names that includes the byte at
// the offset, or ends before it, begins and ends. The table is searched as it
// stands, since a list of its entries would have to be built for each call.
func entryAround(at int) (start, end int) {
	start = strings.LastIndexByte(api.Names[:at], ' ') + 1
	length := strings.IndexByte(api.Names[at:], ' ')
	if length < 0 {
		return start, len(api.Names)
	}
	return start, at + length
}

// beyondCodePoints is the smallest number above all code points.
const beyondCodePoints = 0x110000

// CodePoint returns the code point that a numeric reference stands for.
func CodePoint(code int) rune {
	switch {
	case code <= 0, code >= beyondCodePoints, 0xD800 <= code && code <= 0xDFFF:
		return 0xFFFD
	case 0x80 <= code && code <= 0x9F:
		return controls[code-0x80]
	}
	return rune(code)
}

// controls lists the code points for the numbers from 80 to 9F, which many
// documents use for the characters that Windows-1252 has there.
var controls = [32]rune{
	0x20AC, 0x81, 0x201A, 0x0192, 0x201E, 0x2026, 0x2020, 0x2021,
	0x02C6, 0x2030, 0x0160, 0x2039, 0x0152, 0x8D, 0x017D, 0x8F,
	0x90, 0x2018, 0x2019, 0x201C, 0x201D, 0x2022, 0x2013, 0x2014,
	0x02DC, 0x2122, 0x0161, 0x203A, 0x0153, 0x9D, 0x017E, 0x0178,
}

// Digits reads the digits that s begins with.
func Digits(s string, base int) (code, n int) {
	isDigit := IsHex
	if base != 16 {
		base, isDigit = 10, IsDigit
	}
	for n < len(s) && isDigit(rune(s[n])) {
		code = min(code*base+digitValue(s[n]), beyondCodePoints)
		n++
	}
	return code, n
}

// digitValue returns the number of a hexadecimal digit.
func digitValue(digit byte) int {
	if IsDigit(rune(digit)) {
		return int(digit - '0')
	}
	return int(lowerByte(digit)-'a') + 10
}
