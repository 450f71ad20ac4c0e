package field_test

import (
	"go/ast"
	"go/parser"
	"go/token"
	"path/filepath"
	"strings"
	"testing"
)

// sources returns the files of the package, without its tests.
func sources(t *testing.T, set *token.FileSet) []*ast.File {
	t.Helper()
	names, err := filepath.Glob("*.go")
	if err != nil {
		t.Fatal(err)
	}
	var l []*ast.File
	for _, n := range names {
		if strings.HasSuffix(n, "_test.go") {
			continue
		}
		f, err := parser.ParseFile(set, n, nil, 0)
		if err != nil {
			t.Fatal(err)
		}
		l = append(l, f)
	}
	return l
}

// changers returns the names of the methods that have a pointer, and so can change what they are called on.
func changers(files []*ast.File) map[string]bool {
	out := map[string]bool{}
	for _, f := range files {
		for _, d := range f.Decls {
			if x, ok := d.(*ast.FuncDecl); ok && x.Recv != nil {
				if _, pointer := x.Recv.List[0].Type.(*ast.StarExpr); pointer {
					out[x.Name.Name] = true
				}
			}
		}
	}
	return out
}

// evaluated returns what n, if it is a statement, evaluates at once; what is only assigned to is not read.
func evaluated(n ast.Node) []ast.Expr {
	switch x := n.(type) {
	case *ast.AssignStmt:
		if x.Tok == token.ASSIGN || x.Tok == token.DEFINE {
			return x.Rhs
		}
		return append(x.Rhs[:1:1], x.Lhs...)
	case *ast.ReturnStmt:
		return x.Results
	case *ast.ExprStmt:
		return []ast.Expr{x.X}
	case *ast.IfStmt:
		return []ast.Expr{x.Cond}
	}
	return nil
}

// bothWays returns the variables that l reads and has changed by a call: which comes first, Go leaves open.
func bothWays(l []ast.Expr, changes map[string]bool) []string {
	called, read := map[string]bool{}, map[string]bool{}
	receivers := map[ast.Node]bool{}
	look := func(n ast.Node) bool {
		switch x := n.(type) {
		case *ast.CallExpr:
			if s, ok := x.Fun.(*ast.SelectorExpr); ok && changes[s.Sel.Name] {
				if v, ok := s.X.(*ast.Ident); ok {
					called[v.Name], receivers[v] = true, true
				}
			}
		case *ast.UnaryExpr:
			return x.Op != token.AND // an address stays as it is, whatever is written there
		case *ast.Ident:
			if !receivers[x] {
				read[x.Name] = true
			}
		}
		return true
	}
	for _, e := range l {
		ast.Inspect(e, look)
	}
	var out []string
	for v := range called {
		if read[v] {
			out = append(out, v)
		}
	}
	return out
}

// T6: no statement reads a variable beside a call that changes it, so that no result depends on an order that Go leaves open.
func TestNothingIsReadBesideItsChange(t *testing.T) {
	set := token.NewFileSet()
	files := sources(t, set)
	changes := changers(files)
	for _, f := range files {
		ast.Inspect(f, func(n ast.Node) bool {
			for _, v := range bothWays(evaluated(n), changes) {
				t.Errorf("%s: %s is read beside a call that changes it", set.Position(n.Pos()), v)
			}
			return true
		})
	}
}
