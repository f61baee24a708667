package vary_test

import (
	"strings"

	"herald/api"
	"herald/lists"
)

// The model reads values byte by byte, and holds two requests against one another
// field by field, in the chapter's words.

const (
	smallLetters = "abcdefghijklmnopqrstuvwxyz"
	largeLetters = "ABCDEFGHIJKLMNOPQRSTUVWXYZ"
)

func modelNames(r api.Response) (names []string, star bool) {
	for _, f := range r.Fields {
		if f.Name != "vary" {
			continue
		}
		for _, piece := range modelPieces(f.Value) {
			switch {
			case piece == "*":
				star = true
			case piece != "" && !isAmong(names, piece):
				names = append(names, piece)
			}
		}
	}
	return names, star
}

func modelPieces(value string) []string {
	var pieces []string
	piece := ""
	for i := range len(value) {
		if value[i] == 44 {
			pieces = append(pieces, modelPiece(piece))
			piece = ""
		} else {
			piece += value[i : i+1]
		}
	}
	return append(pieces, modelPiece(piece))
}

func modelPiece(s string) string {
	for len(s) > 0 && (s[0] == 32 || s[0] == 9) {
		s = s[1:]
	}
	for len(s) > 0 && (s[len(s)-1] == 32 || s[len(s)-1] == 9) {
		s = s[:len(s)-1]
	}
	for i := range smallLetters {
		s = strings.ReplaceAll(s, largeLetters[i:i+1], smallLetters[i:i+1])
	}
	return s
}

func isAmong(l []string, s string) bool {
	for _, x := range l {
		if x == s {
			return true
		}
	}
	return false
}

func modelMatch(promised, asked api.Request, names []string) bool {
	if promised.Method != asked.Method || promised.Scheme != asked.Scheme || promised.Authority != asked.Authority || promised.Path != asked.Path {
		return false
	}
	for _, name := range names {
		i, j := nextOf(promised.Fields, name, 0), nextOf(asked.Fields, name, 0)
		for i < len(promised.Fields) && j < len(asked.Fields) && promised.Fields[i].Value == asked.Fields[j].Value {
			i, j = nextOf(promised.Fields, name, i+1), nextOf(asked.Fields, name, j+1)
		}
		if i < len(promised.Fields) || j < len(asked.Fields) {
			return false
		}
	}
	return true
}

// nextOf is where the next field of a name is, from a place on; the list's length:
// nowhere.
func nextOf(l []api.Field, name string, from int) int {
	for from < len(l) && l[from].Name != name {
		from++
	}
	return from
}

// What the tests make their requests and responses of.

// varying is a response with so many vary fields.
func varying(values ...string) api.Response {
	r := api.Response{Status: 200}
	for _, v := range values {
		r.Fields = append(r.Fields, api.Field{Name: "vary", Value: v})
	}
	return r
}

// getX is the request of the chapter's examples, with these fields.
func getX(l ...api.Field) api.Request {
	return api.Request{Method: "GET", Scheme: "https", Authority: "a.b", Path: "/x", Fields: l}
}

// getWith is getX with fields out of names, each with its value behind it.
func getWith(texts ...string) api.Request { return getX(lists.Of(texts...)...) }

// heads are where the four texts of a request stand that must be the same.
func heads(r *api.Request) []*string {
	return []*string{&r.Method, &r.Scheme, &r.Authority, &r.Path}
}

// bent are a text with one byte left out, put in, or taken for another, and with
// two that stand side by side and are unlike changed about.
func bent(s string) []string {
	var all []string
	for i := range len(s) + 1 {
		for b := range 256 {
			x := string([]byte{byte(b)})
			all = append(all, s[:i]+x+s[i:])
			if i < len(s) && x != s[i:i+1] {
				all = append(all, s[:i]+x+s[i+1:])
			}
		}
		if i < len(s) {
			all = append(all, s[:i]+s[i+1:])
		}
		if i+1 < len(s) && s[i] != s[i+1] {
			all = append(all, s[:i]+s[i+1:i+2]+s[i:i+1]+s[i+2:])
		}
	}
	return all
}
