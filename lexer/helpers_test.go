package lexer_test

import (
	"reflect"
	"slices"
	"strconv"
	"testing"

	"thicket/api"
	"thicket/lexer"
)

var eof = api.Token{Kind: api.EOF}

var states = []api.State{api.DataState, api.RCDATAState, api.RAWTEXTState, api.ScriptState, api.PlaintextState}

func char(r rune) api.Token {
	return api.Token{Kind: api.Char, Rune: r}
}

func comment(data string) api.Token {
	return api.Token{Kind: api.CommentToken, Data: data}
}

// tag is a start tag with attributes of these names and values, in turn.
func tag(name string, namesAndValues ...string) api.Token {
	t := api.Token{Kind: api.StartTag, Name: name}
	for pair := range slices.Chunk(namesAndValues, 2) {
		t.Attrs = append(t.Attrs, api.Attr{Name: pair[0], Value: pair[1]})
	}
	return t
}

func end(name string) api.Token {
	return api.Token{Kind: api.EndTag, Name: name}
}

func selfClosing(t api.Token) api.Token {
	t.SelfClosing = true
	return t
}

// list is a list of tokens; a string stands for its characters.
func list(parts ...any) []api.Token {
	var l []api.Token
	for _, part := range parts {
		switch x := part.(type) {
		case api.Token:
			l = append(l, x)
		case string:
			for _, r := range x {
				l = append(l, char(r))
			}
		}
	}
	return l
}

// same compares tokens without the help of the package.
func same(a, b []api.Token) bool {
	return slices.EqualFunc(a, b, func(x, y api.Token) bool {
		if len(x.Attrs) == 0 && len(y.Attrs) == 0 {
			x.Attrs, y.Attrs = nil, nil
		}
		return reflect.DeepEqual(x, y)
	})
}

// setters set one field of a token to something that is not zero.
func setters() map[string]func(*api.Token) {
	return map[string]func(*api.Token){
		"Name":        func(t *api.Token) { t.Name = "n" },
		"HasName":     func(t *api.Token) { t.HasName = true },
		"Public":      func(t *api.Token) { t.Public = "p" },
		"HasPublic":   func(t *api.Token) { t.HasPublic = true },
		"System":      func(t *api.Token) { t.System = "s" },
		"HasSystem":   func(t *api.Token) { t.HasSystem = true },
		"Quirks":      func(t *api.Token) { t.Quirks = true },
		"Attrs":       func(t *api.Token) { t.Attrs = []api.Attr{{Name: "a"}} },
		"SelfClosing": func(t *api.Token) { t.SelfClosing = true },
		"Data":        func(t *api.Token) { t.Data = "d" },
		"Rune":        func(t *api.Token) { t.Rune = 'r' },
	}
}

func TestSettersSetAllFields(t *testing.T) {
	fields := reflect.TypeFor[api.Token]()
	for i := range fields.NumField() {
		name := fields.Field(i).Name
		if _, found := setters()[name]; !found && name != "Kind" {
			t.Errorf("no setter for %s", name)
		}
	}
	for name, set := range setters() {
		var token api.Token
		set(&token)
		if reflect.ValueOf(token).FieldByName(name).IsZero() {
			t.Errorf("%s was not set", name)
		}
	}
}

func stateName(state api.State) string {
	return "state " + strconv.Itoa(int(state))
}

// checkAll compares the tokens of an input with want and the end.
func checkAll(t *testing.T, b string, state api.State, last string, cdata bool, want ...any) {
	t.Helper()
	wanted := append(list(want...), eof)
	if got := lexer.All(b, state, last, cdata); !same(got, wanted) {
		t.Errorf("All(%q, %s, %q, %v) = %+v, want %+v", b, stateName(state), last, cdata, got, wanted)
	}
}
