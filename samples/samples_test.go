package samples_test

import (
	"slices"
	"testing"

	"thicket/samples"
)

func TestJoined(t *testing.T) {
	var all []string
	samples.Joined([]string{"a", "bc"}, 2, func(s string) { all = append(all, s) })
	if want := []string{"", "a", "aa", "abc", "bc", "bca", "bcbc"}; !slices.Equal(all, want) {
		t.Errorf("%q, want %q", all, want)
	}
	samples.Joined([]string{"a"}, -1, func(s string) {
		if s != "" {
			t.Errorf("%q has parts", s)
		}
	})
}

func TestBytes(t *testing.T) {
	all := samples.Bytes()
	if len(all) != 256 {
		t.Fatalf("%d strings", len(all))
	}
	for i, s := range all {
		if len(s) != 1 || s[0] != byte(i) {
			t.Errorf("%d: %q", i, s)
		}
	}
}
