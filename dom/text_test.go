package dom_test

import (
	"math"
	"testing"

	"thicket/api"
	"thicket/arena"
	"thicket/dom"
	"thicket/samples"
)

// P5.5: every call with every handle.
func TestTextsEverywhere(t *testing.T) {
	a := page(t)
	for _, h := range anyHandles() {
		checkOn(t, a, textContent(h), normalize(h))
		for _, s := range strange() {
			checkOn(t, a, setTextContent(h, s))
		}
		for _, at := range []int{math.MinInt, -1, 0, 1, 2, 3, 4, 5, math.MaxInt} {
			checkOn(t, a, split(h, at))
		}
	}
}

// P5.5: the text of nodes of all kinds. What is in contents does not count.
func TestTextContent(t *testing.T) {
	a := page(t)
	for h, want := range map[int]string{
		1: "", 2: "", 3: "tade\"\n\xFF", 4: "c", 5: "t", 6: "", 7: "u", 8: "t", 9: "u", 11: "", 12: "v", 14: "ade\"\n\xFF", 16: "", 17: "d", 21: "f", 24: "", 28: "", 29: "", 33: "", 34: "h",
	} {
		if got, e := dom.TextContent(a, h); got != want || e != api.OK {
			t.Errorf("TextContent(%d) = %q, %d, want %q", h, got, e, want)
		}
	}
	for _, h := range noHandles() {
		if got, e := dom.TextContent(a, h); got != "" || e != api.ErrHandle {
			t.Errorf("TextContent(%d) = %q, %d", h, got, e)
		}
	}
}

// P5.5: SetTextContent.
func TestSetTextContent(t *testing.T) {
	a := page(t)
	for _, h := range noHandles() {
		if e := dom.SetTextContent(a, h, "x"); e != api.ErrHandle {
			t.Errorf("SetTextContent(%d) = %d", h, e)
		}
	}
	for _, x := range []struct {
		h    int
		s    string
		kids []int
	}{
		{3, "new", []int{37}}, {3, "newer", []int{38}}, {3, "", nil}, {14, "", nil}, {5, "n", []int{39}}, {7, "\xFF\x00", []int{40}}, {24, "x", []int{41}}, {28, "", nil},
		{1, "x", []int{2, 3}}, {29, "", []int{30, 31}}, {2, "x", nil}, {4, "comment", nil}, {10, "", nil}, {34, "text", nil},
	} {
		if e := dom.SetTextContent(a, x.h, x.s); e != api.OK {
			t.Errorf("SetTextContent(%d, %q) = %d", x.h, x.s, e)
		}
		kidsAre(t, a, x.h, x.kids...)
	}
	docsAre(t, a, map[int]int{37: 1, 38: 1, 39: 1, 40: 6, 41: 1})
	for h, want := range map[int]string{37: "new", 38: "newer", 39: "n", 40: "\xFF\x00", 41: "x", 4: "comment", 10: "", 34: "text"} {
		if n := nodeOf(a, h); n.Data != want {
			t.Errorf("the data of %d is %q, want %q", h, n.Data, want)
		}
	}
	kidsAre(t, a, 9, 10)
	kidsAre(t, a, 11)
	if a.Parent(9) != 0 || a.Parent(37) != 0 || a.Parent(25) != 0 || a.Len() != 41 || nodeOf(a, 2).Name != "html" {
		t.Error("what was removed")
	}
}

// P5.5: Normalize of the page.
func TestNormalize(t *testing.T) {
	a := page(t)
	for _, h := range noHandles() {
		if e := dom.Normalize(a, h); e != api.ErrHandle {
			t.Errorf("Normalize(%d) = %d", h, e)
		}
	}
	if e := dom.Normalize(a, 3); e != api.OK {
		t.Fatalf("Normalize(3) = %d", e)
	}
	kidsAre(t, a, 14, 15, 17, 20)
	if a.Parent(16) != 0 || a.Parent(19) != 0 || nodeOf(a, 20).Data != "e\"\n\xFF" || nodeOf(a, 19).Data != "" {
		t.Error("which texts remain")
	}
	a.Text(6, "w") // 37
	put(t, a, 9, 37)
	a.Text(1, "x") // 38
	put(t, a, 5, 38)
	dom.Normalize(a, 3) // what is in contents is not below the template
	kidsAre(t, a, 9, 10, 37)
	kidsAre(t, a, 5, 8)
	if n := nodeOf(a, 8); n.Data != "tx" {
		t.Errorf("%+v", n)
	}
	dom.Normalize(a, 7)
	kidsAre(t, a, 9, 10)
	if e := dom.Normalize(a, 10); e != api.OK {
		t.Errorf("Normalize(10) = %d", e)
	}
}

// P5.5: Normalize looks at children, not at the siblings of the node.
func TestNormalizeText(t *testing.T) {
	a := page(t)
	for _, h := range []int{15, 16, 19, 34, 4, 2} {
		if e := dom.Normalize(a, h); e != api.OK {
			t.Errorf("Normalize(%d) = %d", h, e)
		}
	}
	if !a.Equal(page(t)) {
		t.Error("siblings have changed")
	}
}

// texts returns an arena with a fragment 2, whose children the letters of s say:
// e an empty text, c a comment, p an element with two texts, others a text.
func texts(t *testing.T, s string) *arena.Arena {
	t.Helper()
	a := arena.New()
	a.Document(false)
	a.Fragment(1)
	for _, letter := range s {
		h := 0
		switch letter {
		case 'e':
			h, _ = a.Text(1, "")
		case 'c':
			h, _ = a.Comment(1, "comment")
		case 'p':
			h, _ = a.Element(1, api.HTML, "p", nil)
			for _, data := range []string{"", "y", "z", ""} {
				k, _ := a.Text(1, data)
				put(t, a, h, k)
			}
		default:
			h, _ = a.Text(1, string(letter))
		}
		put(t, a, 2, h)
	}
	return a
}

// P5.5: sequences of texts of all sorts. No text content changes.
func TestNormalizeSequences(t *testing.T) {
	samples.Joined([]string{"e", "a", "b", "c", "p"}, 5, func(s string) {
		a := texts(t, s)
		b := a.Copy()
		if check(t, a, b, normalize(2)) {
			checkNormal(t, s, texts(t, s), a)
		}
	})
}

// checkNormal checks that no text is empty or follows another one, and that
// other nodes have the text content that they had before.
func checkNormal(t *testing.T, s string, before, a *arena.Arena) {
	t.Helper()
	for h := range a.Len() {
		h++
		wasText := false
		for _, kid := range a.Kids(h) {
			n := nodeOf(a, kid)
			isText := n.Kind == api.Text
			if isText && (wasText || n.Data == "") {
				t.Errorf("%q: %d is empty or follows a text", s, kid)
			}
			wasText = isText
		}
		old, _ := dom.TextContent(before, h)
		if got, _ := dom.TextContent(a, h); got != old && nodeOf(a, h).Kind != api.Text {
			t.Errorf("%q: the text content of %d is %q, was %q", s, h, got, old)
		}
	}
}

// P5.5: Split.
func TestSplit(t *testing.T) {
	a := page(t)
	for _, x := range []struct {
		h, at, want   int
		first, second string
	}{
		{20, 1, 37, "e", "\"\n\xFF"}, {20, 0, 38, "", "e"}, {15, 1, 39, "a", ""}, {16, 0, 40, "", ""}, {10, 0, 41, "", "u"}, {34, 1, 42, "h", ""}, {38, 1, 43, "e", ""},
	} {
		h, e := dom.Split(a, x.h, x.at)
		if h != x.want || e != api.OK || nodeOf(a, x.h).Data != x.first || nodeOf(a, h).Data != x.second || nodeOf(a, h).Kind != api.Text {
			t.Errorf("Split(%d, %d) = %d, %d", x.h, x.at, h, e)
		}
	}
	kidsAre(t, a, 14, 15, 39, 16, 40, 17, 19, 20, 38, 43, 37)
	kidsAre(t, a, 9, 10, 41)
	docsAre(t, a, map[int]int{37: 1, 41: 6, 42: 29})
	if a.Parent(42) != 0 || a.Len() != 43 {
		t.Error("a text without a parent")
	}
}

// P5.5: the errors of Split in their order.
func TestSplitErrors(t *testing.T) {
	a := page(t)
	for _, x := range []struct {
		h, at int
		want  api.Errno
	}{
		{0, 0, api.ErrHandle}, {pageNodes + 1, -1, api.ErrHandle}, {3, 0, api.ErrKind}, {4, 0, api.ErrKind}, {4, -1, api.ErrKind}, {1, 9, api.ErrKind}, {2, 0, api.ErrKind}, {24, 0, api.ErrKind},
		{15, -1, api.ErrArg}, {15, 2, api.ErrArg}, {16, 1, api.ErrArg}, {20, 5, api.ErrArg}, {20, math.MinInt, api.ErrArg}, {20, math.MaxInt, api.ErrArg},
	} {
		if h, e := dom.Split(a, x.h, x.at); h != 0 || e != x.want {
			t.Errorf("Split(%d, %d) = %d, %d, want %d", x.h, x.at, h, e, x.want)
		}
	}
	if !a.Equal(page(t)) {
		t.Error("errors change nodes")
	}
}

// P5.5: splitting text and joining it again.
func TestSplitAndNormalize(t *testing.T) {
	const data = "a\u00E9\U0001F600\xFF\r\n"
	for at := 0; at <= len(data); at++ {
		a := arena.New()
		a.Document(false)
		a.Fragment(1)
		a.Text(1, data)
		put(t, a, 2, 3)
		h, e := dom.Split(a, 3, at)
		kidsAre(t, a, 2, 3, 4)
		if s, _ := dom.TextContent(a, 2); h != 4 || e != api.OK || s != data {
			t.Errorf("Split at %d = %d, %d: %q", at, h, e, s)
		}
		dom.Normalize(a, 2)
		kept := 3
		if at == 0 {
			kept = 4
		}
		kidsAre(t, a, 2, kept)
		if got := nodeOf(a, kept).Data; got != data {
			t.Errorf("%q", got)
		}
	}
}

// P5.5, R3: a nil arena.
func TestTextsOfNil(t *testing.T) {
	for _, h := range anyHandles() {
		checkNil(t, textContent(h), setTextContent(h, ""), setTextContent(h, "x"), normalize(h), split(h, 0), split(h, -1))
	}
}
