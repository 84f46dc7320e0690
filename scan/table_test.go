package scan_test

import (
	"fmt"
	"strings"

	"thicket/text"
)

// row is a row of a state table of the chapter. The first row of a state whose
// bytes include the next byte applies.
type row struct {
	state string
	on    string // the bytes; "else": any byte; "end" also counts where it stands
	do    string // actions, separated by commas; "again": nothing is consumed
	to    string // the next state; empty: the same one
}

// has reports whether the row is for this byte; -1 stands for the end.
func (r row) has(b int) bool {
	for _, word := range strings.Split(r.on, " ") {
		switch {
		case word == "end":
			if b < 0 {
				return true
			}
		case b < 0:
		case word == "else", word == "space" && text.IsSpace(rune(b)), word == "letter" && text.IsLetter(rune(b)), word == string(rune(b)):
			return true
		}
	}
	return false
}

// run goes through the table from its first row's state on. perform is called
// with each action but "again" and "done"; it may consume bytes behind the next
// one by returning their number, and may choose a state. Without a row for the
// end, the end stops the run.
func run(table []row, s string, perform func(action string, b, at int) (more int, to string)) (next int) {
	state := table[0].state
	for at := 0; ; {
		b := -1
		if at < len(s) {
			b = int(s[at])
		}
		found := rowFor(table, state, b)
		if found == nil {
			if b < 0 {
				return at
			}
			panic(fmt.Sprintf("no row for %q in %s", s[at], state))
		}
		if found.to != "" {
			state = found.to
		}
		again, done := b < 0, false
		for _, action := range strings.Split(found.do, ",") {
			switch action {
			case "":
			case "again":
				again = true
			case "done":
				done = true
			default:
				more, to := perform(action, b, at)
				at += more
				if to != "" {
					state = to
				}
			}
		}
		if !again {
			at++
		}
		if done {
			return at
		}
	}
}

func rowFor(table []row, state string, b int) *row {
	for i := range table {
		if table[i].state == state && table[i].has(b) {
			return &table[i]
		}
	}
	return nil
}

// replaced returns what the NUL rule makes of the byte.
func replaced(b int) string {
	if b == 0 {
		return "\uFFFD"
	}
	return string([]byte{byte(b)})
}

// lowered returns what the NUL rule makes of the byte, in lower case.
func lowered(b int) string {
	return text.Lower(replaced(b))
}
